/- The marks of a row of uploads, asked for. Marks of texts that are asked for. The marks of a disk, asked for. The marks of a store, asked for. Marks laid into answers that wait, in a row of the call's own, and asked for. The marks laid into a server, and asked for: into its store, and into what waits behind it. -/
import Derived.Test.YtpjldfpipchmjavGreatDoorM08
import Derived.Test.YtpjldfpipchmjavGreatDoorM04
import Derived.Deep.RegionWith
import Derived.Test.YtpjldfpipchmjavGreatDoorM06
namespace Go.Proofs.YtpjldfpipchmjavGreatDoor
open Go.RowKit
set_option linter.unusedVariables false

theorem held_intU (base : Nat) (a : Option Addr) (n cap k : Nat) (kk : Int) (w : World) (h : Owns w base a n cap (marks k n)) (hn : n ≤ 2199023255552) (hk : k ≤ 2199023255552) (hkk : kk = (k : Int)) :
    Calls Tryz.prog 145 #[.slice a n cap, .int .i64 kk] w fun e w' => e = .returned (.int .i64 ((k + n : Nat) : Int)) ∧ w' = w := by
  subst hkk
  exact held_any base a n cap k w h hn hk

set_option maxRecDepth 10000 in
set_option maxHeartbeats 3200000 in
theorem heldUpS_any (base : Nat) (a : Option Addr) (n cap k : Nat) (l : List UE) (w : World) (h : UpRow w base (.slice a n cap) (mkUp k l)) (hn : l.length = n) (hk : mkUEnd k l ≤ 2199023255552) (hnb : n ≤ 1099511627776) :
    Calls Tryz.prog 103 #[.slice a n cap, .int .i64 (k : Int)] w fun e w' => e = .returned (.int .i64 (mkUEnd k l : Int)) ∧ Below w.heap.size w w' := by
  have HO : Hid (UpRow w base (.slice a n cap) (mkUp k l)) := h
  have HN : Hid (l.length = n) := hn
  have HK : Hid (mkUEnd k l ≤ 2199023255552) := hk
  clear h hn hk
  go_enter Tryz.func103, Tryz.ntmps103
  go_wp2
  go_loopw [1, 5] (fun v i wr => ∃ j : Nat, j ≤ n ∧ i = .int .i64 j ∧ v = .int .i64 (mkUEnd k (l.take j) : Int) ∧ Hid (Below w.heap.size w wr)) (fun _ i _ => n - (intOf i).toNat)
  case atStart => exact ⟨0, Nat.zero_le _, rfl, rfl, Below.refl _ _⟩
  case round =>
    obtain ⟨j, hj, rfl, rfl, HW⟩ := hrel
    by_cases hlt : j < n
    · have hjl : j < l.length := by have := HN.out; omega
      have ht : l.take (j + 1) = l.take j ++ [l[j]] := List.take_succ_eq_append_getElem hjl
      have hml : (mkUp k (l.take j)).length = j := by rw [mkUp_len, List.length_take]; omega
      have HEnd : Hid (mkUEnd k (l.take (j + 1)) = mkUEnd k (l.take j) + 3 + (l[j]).n) := by show _ = _; rw [ht, mkUEnd_append]; rfl
      have hKb : mkUEnd k (l.take j) + 3 + (l[j]).n ≤ 2199023255552 := by
        have h1 := HK.out
        rw [← List.take_append_drop (j + 1) l, mkUEnd_append] at h1
        have h2 := mkUEnd_ge (mkUEnd k (l.take (j + 1))) (l.drop (j + 1))
        have h3 := HEnd.out
        omega
      have hFr : mkUp k l = mkUp k (l.take j) ++ mkU1 (mkUEnd k (l.take j)) (l[j]) :: mkUp (mkUEnd k (l.take j) + 3 + (l[j]).n) (l.drop (j + 1)) := by
        have hd : l = l.take j ++ l[j] :: l.drop (j + 1) := by rw [← List.drop_eq_getElem_cons hjl]; exact (List.take_append_drop j l).symm
        rw [show mkUp k l = mkUp k (l.take j ++ l[j] :: l.drop (j + 1)) from congrArg (mkUp k) hd, mkUp_append]
        rfl
      have hlen : (mkUp k l).length = n := by rw [mkUp_len]; exact HN.out
      have hge : (mkUp k l)[j]'(by omega) = mkU1 (mkUEnd k (l.take j)) (l[j]) := by
        have h1 : (mkUp k l)[j]? = some (mkU1 (mkUEnd k (l.take j)) (l[j])) := by
          rw [hFr, List.getElem?_append_right (by omega), hml, Nat.sub_self]
          rfl
        rw [List.getElem?_eq_getElem (by omega)] at h1
        exact Option.some.inj h1
      have HAt : Hid (∀ W, Below w.heap.size w W → ∃ g, a = some ⟨g, 0, none⟩ ∧ W.cell? ⟨g, j * 4, none⟩ = some (.string (mt (mkUEnd k (l.take j)))) ∧ W.cell? ⟨g, j * 4 + 1, none⟩ = some (.int .i64 ((mkUEnd k (l.take j) : Int) + 1)) ∧ W.cell? ⟨g, j * 4 + 2, none⟩ = some (.slice (l[j]).a (l[j]).n (l[j]).c) ∧ W.cell? ⟨g, j * 4 + 3, none⟩ = some (.bool (mbU (mkUEnd k (l.take j) + 2 + (l[j]).n))) ∧ Owns W base (l[j]).a (l[j]).n (l[j]).c (marks (mkUEnd k (l.take j) + 2) (l[j]).n)) := fun W hb => by
        have hO := HO.out.stays hb
        have hat := hO.at hlen.symm (i := j) (by omega)
        have hin := hO.2.1 ((mkUp k l)[j]'(by omega)) (List.getElem_mem _)
        rw [hge] at hat hin
        obtain ⟨g, h1, h2, h3, h4, h5, _⟩ := hat
        exact ⟨g, h1, h2, h3, h4, h5, hin⟩
      clear hge hFr ht hml hlen
      generalize mkUEnd k (l.take j) = K at *
      generalize l[j] = e at *
      obtain ⟨r, ea, en, ec⟩ := e
      dsimp only at *
      obtain ⟨g, rfl, _⟩ := HAt.out _ HW.out
      have hKi : (K : Int) ≤ 2199023255552 := by omega
      have hji : (j : Int) < (n : Int) := by omega
      have hj0 : (0 : Int) ≤ (j : Int) := by omega
      have hC : ∀ P : Past wr, P.world.cell? ⟨g, j * 4, none⟩ = some (.string (mt K)) := fun P => by
        obtain ⟨g', hg, h1, _⟩ := HAt.out _ (HW.out.trans (P.below.mono HW.out.size))
        injection hg with hg
        injection hg with hg
        subst hg
        exact h1
      have HTx : Hid (∀ P : Past wr, Calls Tryz.prog 143 #[.int .i64 (K : Int)] P.world fun e w' => e = .returned (.string (mt K)) ∧ Below P.world.heap.size P.world w') := fun P => markText_any K P.world (by omega)
      have hnp := past_some wr
      generalize mt K = T3 at *
      have n3 : (T3.toList != T3.toList) = false := by simp
      go_wp2_with fail
      refine wp_region_past (by kernel_rfl) (by kernel_rfl) ?_
      repeat (quiet_step ((first | (go_at_call 143; with_reducible exact calls_past (HTx.out _)) | fail)))
      refine wpQuiet_nil ?_
      rintro _ ⟨z, rfl⟩
      have HB2 : Hid (Below w.heap.size w z.world) := HW.out.trans (z.below.mono HW.out.size)
      obtain ⟨x1, hx1⟩ : ∃ x1, z.world = x1 := ⟨_, rfl⟩
      rw [hx1] at HB2 ⊢
      clear hx1 z hnp hC HTx HW
      obtain ⟨g', hg, _, c1, c2, c3, ho⟩ := HAt.out _ HB2.out
      injection hg with hg
      injection hg with hg
      subst hg
      have HE : Hid (Owns x1 base ea en ec (marks (K + 2) en)) := ho
      have n1 : ((K : Int) + 1 != (K : Int) + 1) = false := by simp
      clear ho HAt
      go_wp2_with fail
      refine (held_intU base ea en ec (K + 2) _ _ HE.out (by omega) (by omega) (by omega)).mono ?_
      rintro _ x1 ⟨rfl, rfl⟩
      obtain ⟨K4, hK4⟩ : ∃ K4, K + 2 + en = K4 := ⟨_, rfl⟩
      have HK4 : Hid (K + 2 + en = K4) := hK4
      rw [hK4] at c3 ⊢
      have hmb := mbU_is K4
      have hK4i : (K4 : Int) ≤ 2199023255552 := by omega
      have hK4p : ¬ (K4 : Int) < 0 := by omega
      have n4 : (mbU K4 != mbU K4) = false := by simp
      clear hK4
      go_wp2
      go_roundw
      case rel =>
        refine ⟨j + 1, by omega, by go_num, ?_, HB2⟩
        rw [HEnd.out]
        have := HK4.out
        go_num
      case measure => simp [intOf]; omega
    · have hjn : j = n := by omega
      subst hjn
      have hl := HN.out
      have HE : Hid (mkUEnd k (l.take j) = mkUEnd k l) := by show _ = _; rw [List.take_of_length_le (by omega)]
      generalize mkUEnd k (l.take j) = K at *
      go_wp2
      go_ret
      exact ⟨ret_int (by rw [HE.out]), HW.out⟩

end Go.Proofs.YtpjldfpipchmjavGreatDoor

namespace Go.Proofs.YtpjldfpipchmjavGreatDoor
open Go.RowKit
set_option linter.unusedVariables false

set_option maxRecDepth 10000 in
set_option maxHeartbeats 1600000 in
theorem heldStrS_any (a : Option Addr) (n cap k : Nat) (w : World) (h : Strs w a n (marksS k n)) (hn : n ≤ 1099511627776) (hk : k ≤ 1099511627776) :
    Calls Tryz.prog 144 #[.slice a n cap, .int .i64 (k : Int)] w fun e w' => e = .returned (.int .i64 ((k + n : Nat) : Int)) ∧ Below w.heap.size w w' := by
  have HX : Hid (Strs w a n (marksS k n)) := h
  clear h
  go_enter Tryz.func144, Tryz.ntmps144
  go_wp2_with fail
  go_loopw [1, 5] (fun q i wr => ∃ j : Nat, j ≤ n ∧ i = .int .i64 j ∧ q = .int .i64 ((k + j : Nat) : Int) ∧ Hid (Below w.heap.size w wr)) (fun _ i _ => n - (intOf i).toNat)
  case atStart => exact ⟨0, Nat.zero_le _, rfl, rfl, Below.refl _ _⟩
  case round =>
    obtain ⟨j, hj, rfl, rfl, HB⟩ := hrel
    by_cases hlt : j < n
    · obtain ⟨b, off, x, rfl, hb, hfx, hc0⟩ := (HX.out.below HB.out).at hlt
      obtain rfl : x = mt (k + j) := by
        rw [marksS_at k n j hlt] at hfx
        simp at hfx
        exact hfx.symm
      have hji : (j : Int) < (n : Int) := by omega
      have HM1 : Hid (∀ W, Calls Tryz.prog 143 #[.int .i64 ((k + j : Nat) : Int)] W fun e w' => e = .returned (.string (mt (k + j))) ∧ Below W.heap.size W w') := fun W => markText_any _ W (by omega)
      generalize mt (k + j) = m1 at *
      obtain ⟨K1, hK1⟩ : ∃ K1, k + (j + 1) = K1 := ⟨_, rfl⟩
      obtain ⟨K0, hK0⟩ : ∃ K0, k + j = K0 := ⟨_, rfl⟩
      have hq1 : (K0 : Int) + 1 = (K1 : Int) := by omega
      rw [hK0] at HM1 ⊢
      have HK1 : Hid (k + (j + 1) = K1) := hK1
      have hK0b : (K0 : Int) ≤ 4398046511104 := by omega
      clear hK0 hK1 hfx
      have hne1 : (m1.toList != m1.toList) = false := by simp
      have HC : Hid (∀ W, Below wr.heap.size wr W → W.cell? ⟨b, off + j, none⟩ = some (.string m1) ∧ Below w.heap.size w W) := fun W hW => ⟨(hW.cell (p := ⟨b, _, none⟩) hb).trans hc0, HB.out.trans (hW.mono HB.out.size)⟩
      go_wp2_with fail
      go_region_with (first
        | (go_at_call 143; refine (HM1.out _).mono ?_; rintro e x1 ⟨rfl, hb1⟩; have hb1' : Below wr.heap.size wr x1 := (Below.refl wr.heap.size wr).drew.trans (hb1.mono (Nat.le_refl _)); obtain ⟨k0, k2⟩ := HC.out x1 hb1'))
      all_goals
        have HB3 : Hid (Below w.heap.size w x1) := k2
        clear hb1 hb1' k0 k2 hc0
        go_wp2_with fail
        go_roundw
        case rel => exact ⟨j + 1, by omega, by go_num, by rw [HK1.out], HB3⟩
        case measure => simp [intOf]; omega
    · have hjn : j = n := by omega
      subst hjn
      go_wp2_with fail
      go_ret
      exact ⟨rfl, HB.out⟩

end Go.Proofs.YtpjldfpipchmjavGreatDoor

namespace Go.Proofs.YtpjldfpipchmjavGreatDoor
open Go.RowKit
set_option linter.unusedVariables false

set_option maxHeartbeats 800000 in
theorem heldDisk_any (a : Option Addr) (n ca : Nat) (a' : Option Addr) (n' ca' : Nat) (k : Nat) (w : World) (h1 : Strs w a n (marksS k n)) (h2 : Strs w a' n' (marksS (k + n) n')) (hn : n ≤ 1073741824) (hn' : n' ≤ 1073741824) (hk : k ≤ 1073741824) :
    Calls Tryz.prog 102 #[.agg #[.slice a n ca, .slice a' n' ca'], .int .i64 (k : Int)] w fun r w' => r = .returned (.int .i64 ((k + n + n' : Nat) : Int)) ∧ Below w.heap.size w w' := by
  have HX : Hid (∀ W, Below w.heap.size w W → Strs W a n (marksS k n) ∧ Strs W a' n' (marksS (k + n) n')) := fun W h => ⟨h1.below h, h2.below h⟩
  clear h1 h2
  have HA : Hid (Box2R (w.alloc (Obj.cells #[Value.slice a n ca, Value.slice a' n' ca'] 33)) w.heap.size 33 (.slice a n ca) (.slice a' n' ca')) := Box2R.new _ _ _ _
  have HB : Hid (Below w.heap.size w (w.alloc (Obj.cells #[Value.slice a n ca, Value.slice a' n' ca'] 33))) := (Below.refl _ _).alloc (Nat.le_refl _) _
  go_enter Tryz.func102, Tryz.ntmps102
  go_wp2_with fail
  refine (heldStrS_any a n ca k _ (HX.out _ HB.out).1 (by omega) (by omega)).mono ?_
  rintro r x1 ⟨rfl, hb1⟩
  have HB1 : Hid (Below w.heap.size w x1) := HB.out.trans (hb1.mono HB.out.size)
  obtain ⟨c0, c1⟩ := (HA.out.stays hb1).cells
  clear hb1 HA HB
  have HM : Hid (Calls Tryz.prog 144 #[.slice a' n' ca', .int .i64 ((k + n : Nat) : Int)] x1 fun e w' => e = .returned (.int .i64 ((k + n + n' : Nat) : Int)) ∧ Below x1.heap.size x1 w') := heldStrS_any a' n' ca' (k + n) _ (HX.out _ HB1.out).2 (by omega) (by omega)
  clear HX
  obtain ⟨K, hK⟩ : ∃ K, k + n = K := ⟨_, rfl⟩
  rw [hK] at HM ⊢
  have hp1 : ¬ (K : Int) < 0 := by omega
  have hp1d : decide ((K : Int) < 0) = false := by simp
  have HK : Hid (k + n = K) := hK
  clear hK
  go_wp2_with fail
  refine HM.out.mono ?_
  rintro r x2 ⟨rfl, hb2⟩
  have HB2 : Hid (Below w.heap.size w x2) := HB1.out.trans (hb2.mono HB1.out.size)
  clear hb2 HM HB1 c0 c1
  obtain ⟨K2, hK2⟩ : ∃ K2, K + n' = K2 := ⟨_, rfl⟩
  have HK2 : Hid (K + n' = K2) := hK2
  rw [hK2]
  have hp2 : ¬ (K2 : Int) < 0 := by omega
  have hp2d : decide ((K2 : Int) < 0) = false := by simp
  clear hK2
  go_wp2_with fail
  go_ret
  exact ⟨ret_i64 (by rw [HK.out, HK2.out]), HB2.out⟩

end Go.Proofs.YtpjldfpipchmjavGreatDoor

namespace Go.Proofs.YtpjldfpipchmjavGreatDoor
open Go.RowKit
set_option linter.unusedVariables false

set_option maxRecDepth 10000 in
set_option maxHeartbeats 1600000 in
theorem heldStore_any (base : Nat) (a : Option Addr) (n ca : Nat) (a' : Option Addr) (n' ca' : Nat) (ep nx : Int) (ua : Option Addr) (un uc : Nat) (l : List UE) (k : Nat) (w : World) (h : StoMkd w base k a n ca a' n' ca' ua un uc l) (hn : n ≤ 2097152) (hn' : n' ≤ 2097152) (hk : k ≤ 1073741824) (hul : un ≤ 1099511627776) (hkE : mkUEnd (k + n + n') l ≤ 2199023255552) :
    Calls Tryz.prog 51 #[.agg #[.slice a n ca, .slice a' n' ca', .int .i64 ep, .int .i64 nx, .slice ua un uc], .int .i64 (k : Int)] w fun r w' => r = .returned (.int .i64 (mkUEnd (k + n + n') l : Int)) ∧ Below w.heap.size w w' := by
  have HS : Hid (∀ W, Below w.heap.size w W → StoMkd W base k a n ca a' n' ca' ua un uc l) := fun W hb => StoAt.stays h hb
  have HK : Hid (mkUEnd (k + n + n') l ≤ 2199023255552) := hkE
  clear h hkE
  have HA : Hid (BoxN (w.alloc (.cells #[.slice a n ca, .slice a' n' ca', .int .i64 ep, .int .i64 nx, .slice ua un uc] 36)) w.heap.size 36 [.slice a n ca, .slice a' n' ca', .int .i64 ep, .int .i64 nx, .slice ua un uc]) := BoxN.new _ _ _
  have HB : Hid (Below w.heap.size w (w.alloc (.cells #[.slice a n ca, .slice a' n' ca', .int .i64 ep, .int .i64 nx, .slice ua un uc] 36))) := (Below.refl _ _).alloc (Nat.le_refl _) _
  go_enter Tryz.func51, Tryz.ntmps51
  go_wp2_with fail
  obtain ⟨w0, hw0⟩ : ∃ w0, w.alloc (.cells #[.slice a n ca, .slice a' n' ca', .int .i64 ep, .int .i64 nx, .slice ua un uc] 36) = w0 := ⟨_, rfl⟩
  rw [hw0] at HA HB ⊢
  clear hw0
  refine (heldDisk_any a n ca a' n' ca' k w0 (HS.out _ HB.out).now.strs (HS.out _ HB.out).sure.strs (by omega) (by omega) hk).mono ?_
  rintro _ x1 ⟨rfl, hb1⟩
  have HB1 : Hid (Below w.heap.size w x1) := HB.out.trans (hb1.mono HB.out.size)
  have c4 := (HA.out.stays hb1).cell 4 rfl
  clear hb1
  obtain ⟨K, hK⟩ : ∃ K, k + n + n' = K := ⟨_, rfl⟩
  have HKe : Hid (k + n + n' = K) := hK
  rw [hK] at HK ⊢
  have hKb : (K : Int) ≤ 2199023255552 := by have := HKe.out; omega
  have hp1 : ¬ (K : Int) < 0 := by omega
  have hp1d : decide ((K : Int) < 0) = false := by simp
  have HU1 : Hid (UpRow x1 base (.slice ua un uc) (mkUp K l) ∧ l.length = un) := by
    have h1 := (HS.out _ HB1.out).ups
    have h2 := (HS.out _ HB1.out).len
    rw [hK] at h1
    rw [mkUp_len] at h2
    exact ⟨h1, h2.symm⟩
  clear hK
  go_wp2_with fail
  refine (heldUpS_any base ua un uc K l x1 HU1.out.1 HU1.out.2 HK.out hul).mono ?_
  rintro _ x2 ⟨rfl, hb2⟩
  have HB2 : Hid (Below w.heap.size w x2) := HB1.out.trans (hb2.mono HB1.out.size)
  obtain ⟨E, hE⟩ : ∃ E, mkUEnd K l = E := ⟨_, rfl⟩
  have HEe : Hid (mkUEnd K l = E) := hE
  rw [hE]
  have hp2 : ¬ (E : Int) < 0 := by omega
  have hp2d : decide ((E : Int) < 0) = false := by simp
  clear hE hb2
  go_wp2_with fail
  go_ret
  exact ⟨ret_i64 (by rw [HKe.out, HEe.out]), HB2.out⟩

end Go.Proofs.YtpjldfpipchmjavGreatDoor

namespace Go.Proofs.YtpjldfpipchmjavGreatDoor
open Go.RowKit
set_option linter.unusedVariables false

/-- The marks: n answers from k on. -/
def marksH (k n : Nat) : List Hd := (List.range n).map fun j => (((k + 3 * j : Nat) : Int), ((k + 3 * j + 1 : Nat) : Int), ((k + 3 * j + 2 : Nat) : Int))
theorem marksH_len (k n : Nat) : (marksH k n).length = n := by simp [marksH]
theorem marksH_at (k n j : Nat) (hj : j < n) : (marksH k n)[j]? = some (((k + 3 * j : Nat) : Int), ((k + 3 * j + 1 : Nat) : Int), ((k + 3 * j + 2 : Nat) : Int)) := by
  simp [marksH, hj]

/-- Answers of which the first j are marked. -/
def markHTo (k : Nat) (xs : List Hd) (j : Nat) : List Hd := marksH k j ++ xs.drop j

theorem markHTo_len (k : Nat) (xs : List Hd) (j : Nat) (h : j ≤ xs.length) : (markHTo k xs j).length = xs.length := by
  simp [markHTo, marksH_len]
  omega

theorem markHTo_step (k : Nat) (xs : List Hd) (j : Nat) (h : j < xs.length) : (markHTo k xs j).set j (((k + 3 * j : Nat) : Int), ((k + 3 * j + 1 : Nat) : Int), ((k + 3 * j + 2 : Nat) : Int)) = markHTo k xs (j + 1) := by
  rw [markHTo, markHTo, List.set_append_right j _ (by rw [marksH_len]; exact Nat.le_refl _), marksH_len, Nat.sub_self, List.drop_eq_getElem_cons h, List.set_cons_zero]
  simp [marksH, List.range_succ]

theorem marksH_range (k n : Nat) (hk : k ≤ 2199023255552) (hn : n ≤ 1099511627776) : ∀ s ∈ marksH k n, hd64 s := by
  intro s hs
  simp only [marksH, List.mem_map, List.mem_range] at hs
  obtain ⟨j, hj, rfl⟩ := hs
  unfold hd64 i64h
  dsimp only
  omega

theorem only_transH {a b c : World} {r : Option Addr} (h : Only a b r) (g : Only b c r) : Only a c r :=
  ⟨g.os.trans h.os, g.tape.trans h.tape, g.output.trans h.output, Nat.le_trans h.size g.size, fun k hk hr => (g.block k (Nat.lt_of_lt_of_le hk h.size) hr).trans (h.block k hk hr)⟩

set_option maxRecDepth 10000 in
set_option maxHeartbeats 1600000 in
theorem markHS_any (base : Nat) (a : Option Addr) (n cap k : Nat) (xs : List Hd) (w : World) (h : OwnH w base a n cap xs) (hn : n ≤ 1099511627776) (hk : k ≤ 2199023255552) :
    Calls Tryz.prog 24 #[.slice a n cap, .int .i64 (k : Int)] w fun e w' => e = .returned (.int .i64 ((k + 3 * n : Nat) : Int)) ∧ OwnH w' base a n cap (marksH k n) ∧ Only w w' a := by
  have hlen := h.len
  have HO0 : Hid (w.ownsRow base 72 3 (.slice a n cap) n (heCells (markHTo k xs 0))) := h.1
  clear h
  go_enter Tryz.func24, Tryz.ntmps24
  go_wp2_with fail
  go_loopw [1, 5] (fun q i wr => ∃ j : Nat, j ≤ n ∧ i = .int .i64 j ∧ q = .int .i64 ((k + 3 * j : Nat) : Int) ∧ Hid (wr.ownsRow base 72 3 (.slice a n cap) n (heCells (markHTo k xs j))) ∧ Hid (Only w wr a)) (fun _ i _ => n - (intOf i).toNat)
  case atStart => exact ⟨0, Nat.zero_le _, rfl, rfl, HO0, ⟨rfl, rfl, rfl, Nat.le_refl _, fun _ _ _ => rfl⟩⟩
  case round =>
    clear HO0
    obtain ⟨j, hj, rfl, rfl, HO, HG⟩ := hrel
    by_cases hlt : j < n
    · obtain ⟨g, rfl⟩ : ∃ g, a = some ⟨g, 0, none⟩ := by
        rcases HO.out.2 with ⟨_, h0⟩ | ⟨g, cap', cur, he, _⟩
        · omega
        · injection he with e1 _ _
          exact ⟨g, e1⟩
      have hji : (j : Int) < (n : Int) := by omega
      have hq1 : ((k + 3 * j : Nat) : Int) + 1 = ((k + 3 * j + 1 : Nat) : Int) := by omega
      have hq2 : ((k + 3 * j + 1 : Nat) : Int) + 1 = ((k + 3 * j + 2 : Nat) : Int) := by omega
      have hq3 : ((k + 3 * j + 2 : Nat) : Int) + 1 = ((k + 3 * (j + 1) : Nat) : Int) := by omega
      have hqb : ((k + 3 * j + 2 : Nat) : Int) ≤ 8796093022208 := by omega
      have HSt : Hid ((markHTo k xs j).set j (((k + 3 * j : Nat) : Int), ((k + 3 * j + 1 : Nat) : Int), ((k + 3 * j + 2 : Nat) : Int)) = markHTo k xs (j + 1)) := markHTo_step k xs j (by omega)
      have HLn : Hid ((markHTo k xs j).length = n) := by show _ = _; rw [markHTo_len k xs j (by omega), hlen]
      generalize markHTo k xs j = L at *
      obtain ⟨K3, hK3⟩ : ∃ K3, k + 3 * (j + 1) = K3 := ⟨_, rfl⟩
      obtain ⟨K2, hK2⟩ : ∃ K2, k + 3 * j + 2 = K2 := ⟨_, rfl⟩
      obtain ⟨K1, hK1⟩ : ∃ K1, k + 3 * j + 1 = K1 := ⟨_, rfl⟩
      obtain ⟨K0, hK0⟩ : ∃ K0, k + 3 * j = K0 := ⟨_, rfl⟩
      rw [hK3] at hq3
      rw [hK2] at hq2 hq3 hqb HSt
      rw [hK1] at hq1 hq2 HSt
      rw [hK0] at hq1 HSt ⊢
      have HK3 : Hid (k + 3 * (j + 1) = K3) := hK3
      have hK0b : (K0 : Int) ≤ 8796093022208 := by omega
      have hK1b : (K1 : Int) ≤ 8796093022208 := by omega
      clear hK0 hK1 hK2 hK3
      have hln : (heCells L).length = n * 3 := by rw [heCells_len, HLn.out]
      have f0 : wr.frozen? ⟨g, j * 3, none⟩ = false := HO.out.frozenAt _
      obtain ⟨u0, hu0⟩ : ∃ u, wr.cell? ⟨g, j * 3, none⟩ = some u := by
        rw [HO.out.cellAt _ (by omega)]
        exact ⟨_, List.getElem?_eq_getElem (by omega)⟩
      have f1 : wr.frozen? ⟨g, j * 3 + 1, none⟩ = false := HO.out.frozenAt _
      obtain ⟨u1, hu1⟩ : ∃ u, wr.cell? ⟨g, j * 3 + 1, none⟩ = some u := by
        rw [HO.out.cellAt _ (by omega)]
        exact ⟨_, List.getElem?_eq_getElem (by omega)⟩
      have f2 : wr.frozen? ⟨g, j * 3 + 2, none⟩ = false := HO.out.frozenAt _
      obtain ⟨u2, hu2⟩ : ∃ u, wr.cell? ⟨g, j * 3 + 2, none⟩ = some u := by
        rw [HO.out.cellAt _ (by omega)]
        exact ⟨_, List.getElem?_eq_getElem (by omega)⟩
      have hst := HO.out.stored (j * 3) (.int .i64 (K0 : Int))
      have hst2 := hst.1.stored (j * 3 + 1) (.int .i64 (K1 : Int))
      have hst3 := hst2.1.stored (j * 3 + 2) (.int .i64 (K2 : Int))
      have HO4 : Hid ((((wr.setCell ⟨g, j * 3, none⟩ (.int .i64 (K0 : Int))).setCell ⟨g, j * 3 + 1, none⟩ (.int .i64 (K1 : Int))).setCell ⟨g, j * 3 + 2, none⟩ (.int .i64 (K2 : Int))).ownsRow base 72 3 (.slice (some ⟨g, 0, none⟩) n cap) n (heCells (markHTo k xs (j + 1)))) := by
        have h1 := hst3.1
        rw [heCells_set L _ _ _ j (by rw [HLn.out]; exact hlt), HSt.out] at h1
        exact h1
      have HG4 : Hid (Only w (((wr.setCell ⟨g, j * 3, none⟩ (.int .i64 (K0 : Int))).setCell ⟨g, j * 3 + 1, none⟩ (.int .i64 (K1 : Int))).setCell ⟨g, j * 3 + 2, none⟩ (.int .i64 (K2 : Int))) (some ⟨g, 0, none⟩)) := only_transH HG.out (only_transH hst.2 (only_transH hst2.2 hst3.2))
      clear hst hst2 hst3 hln HO HG
      go_wp2_with fail
      go_roundw
      case rel => exact ⟨j + 1, by omega, by go_num, by rw [HK3.out], HO4, HG4⟩
      case measure => simp [intOf]; omega
    · have hjn : j = n := by omega
      subst hjn
      go_wp2_with fail
      go_ret
      have hd : markHTo k xs j = marksH k j := by
        rw [markHTo, List.drop_eq_nil_of_le (by omega), List.append_nil]
      have h1 := HO.out
      rw [hd] at h1
      exact ⟨rfl, ⟨h1, marksH_range k j hk hn⟩, HG.out⟩

set_option maxRecDepth 10000 in
set_option maxHeartbeats 1600000 in
theorem heldHS_any (a : Option Addr) (n cap k : Nat) (w : World) (h : Helds w a n (marksH k n)) (hn : n ≤ 1099511627776) (hk : k ≤ 2199023255552) :
    Calls Tryz.prog 25 #[.slice a n cap, .int .i64 (k : Int)] w fun e w' => e = .returned (.int .i64 ((k + 3 * n : Nat) : Int)) ∧ Below w.heap.size w w' := by
  have HX : Hid (Helds w a n (marksH k n)) := h
  clear h
  go_enter Tryz.func25, Tryz.ntmps25
  go_wp2_with fail
  go_loopw [1, 5] (fun q i wr => ∃ j : Nat, j ≤ n ∧ i = .int .i64 j ∧ q = .int .i64 ((k + 3 * j : Nat) : Int) ∧ Hid (Below w.heap.size w wr)) (fun _ i _ => n - (intOf i).toNat)
  case atStart => exact ⟨0, Nat.zero_le _, rfl, rfl, Below.refl _ _⟩
  case round =>
    obtain ⟨j, hj, rfl, rfl, HB⟩ := hrel
    by_cases hlt : j < n
    · obtain ⟨b, off, x, y, z, rfl, hb, hfx, hc0, hc1, hc2, _⟩ := (HX.out.below HB.out).at hlt
      obtain ⟨rfl, rfl, rfl⟩ : x = ((k + 3 * j : Nat) : Int) ∧ y = ((k + 3 * j + 1 : Nat) : Int) ∧ z = ((k + 3 * j + 2 : Nat) : Int) := by
        rw [marksH_at k n j hlt] at hfx
        injection hfx with hfx
        injection hfx with h1 h2
        injection h2 with h2 h3
        exact ⟨h1.symm, h2.symm, h3.symm⟩
      have hji : (j : Int) < (n : Int) := by omega
      have hq1 : ((k + 3 * j : Nat) : Int) + 1 = ((k + 3 * j + 1 : Nat) : Int) := by omega
      have hq2 : ((k + 3 * j + 1 : Nat) : Int) + 1 = ((k + 3 * j + 2 : Nat) : Int) := by omega
      have hq3 : ((k + 3 * j + 2 : Nat) : Int) + 1 = ((k + 3 * (j + 1) : Nat) : Int) := by omega
      have hqb : ((k + 3 * j + 2 : Nat) : Int) ≤ 8796093022208 := by omega
      obtain ⟨K3, hK3⟩ : ∃ K3, k + 3 * (j + 1) = K3 := ⟨_, rfl⟩
      obtain ⟨K2, hK2⟩ : ∃ K2, k + 3 * j + 2 = K2 := ⟨_, rfl⟩
      obtain ⟨K1, hK1⟩ : ∃ K1, k + 3 * j + 1 = K1 := ⟨_, rfl⟩
      obtain ⟨K0, hK0⟩ : ∃ K0, k + 3 * j = K0 := ⟨_, rfl⟩
      rw [hK3] at hq3
      rw [hK2] at hq2 hq3 hqb hc2
      rw [hK1] at hq1 hq2 hc1
      rw [hK0] at hq1 hc0 ⊢
      have HK3 : Hid (k + 3 * (j + 1) = K3) := hK3
      have hK0b : (K0 : Int) ≤ 8796093022208 := by omega
      have hK1b : (K1 : Int) ≤ 8796093022208 := by omega
      clear hK0 hK1 hK2 hK3 hfx
      have hne1 : ((K0 : Int) != (K0 : Int)) = false := by simp
      have hne2 : ((K1 : Int) != (K1 : Int)) = false := by simp
      have hne3 : ((K2 : Int) != (K2 : Int)) = false := by simp
      go_wp2_with fail
      go_roundw
      case rel => exact ⟨j + 1, by omega, by go_num, by rw [HK3.out], HB⟩
      case measure => simp [intOf]; omega
    · have hjn : j = n := by omega
      subst hjn
      go_wp2_with fail
      go_ret
      exact ⟨rfl, HB.out⟩

end Go.Proofs.YtpjldfpipchmjavGreatDoor

namespace Go.Proofs.YtpjldfpipchmjavGreatDoor
open Go.RowKit
set_option linter.unusedVariables false

/-- The rows of a server with the marks in them, from k on. -/
def SvMkd (W : World) (base k : Nat) (a : Option Addr) (n ca : Nat) (a' : Option Addr) (n' ca' : Nat) (ua : Option Addr) (un uc : Nat) (l : List UE) (ha : Option Addr) (hn hc : Nat) : Prop :=
  StoMkd W base k a n ca a' n' ca' ua un uc l ∧ Helds W ha hn (marksH (mkUEnd (k + n + n') l) hn)

theorem SvMkd.stays {W W' : World} {base k : Nat} {a : Option Addr} {n ca : Nat} {a' : Option Addr} {n' ca' : Nat} {ua : Option Addr} {un uc : Nat} {l : List UE} {ha : Option Addr} {hn hc : Nat} (h : SvMkd W base k a n ca a' n' ca' ua un uc l ha hn hc) (hb : Below W.heap.size W W') : SvMkd W' base k a n ca a' n' ca' ua un uc l ha hn hc := ⟨StoAt.stays h.1 hb, h.2.below hb⟩

/-- A store is as it was where a row of answers is written. -/
theorem StoAt.keptH {W W' : World} {base base' n ca : Nat} {a : Option Addr} {X : List ByteArray} {a' : Option Addr} {n' ca' : Nat} {Y : List ByteArray} {ua : Option Addr} {un uc : Nat} {l : List UE} {ha : Option Addr} {hn hc : Nat} {xs : List Value} (h : StoAt W base a n ca X a' n' ca' Y ua un uc l) (ho : W.ownsRow base' 72 3 (.slice ha hn hc) hn xs) (hg : Only W W' ha) : StoAt W' base a n ca X a' n' ca' Y ua un uc l := by
  have hg' : W.grownBy W' (Value.slice ha hn hc).ownBlock := by rw [ownBlock_sU]; exact hg
  refine ⟨h.now.keptR ho (by decide) hg', h.sure.keptR ho (by decide) hg', h.apart, h.ups.grown hg (fun q hq hq2 => ?_) (fun e he q hq hq2 => ?_), h.len⟩
  · exact rows_apart ho h.ups.1 (by decide) q (by rw [ownBlock_sU]; exact hq) hq2
  · exact rows_apart ho (h.ups.2.1 e he).1 (by decide) q (by rw [ownBlock_sU]; exact hq) (by rw [ownBlock_sU]; exact hq2)

/-- Marks asked of no answers, and laid into none. -/
theorem helds_zero {W : World} {a : Option Addr} {k : Nat} : Helds W a 0 (marksH k 0) := ⟨rfl, by simp [marksH], .inl rfl⟩

set_option maxRecDepth 10000 in
set_option maxHeartbeats 800000 in
theorem markHS_zero (a : Option Addr) (c : Nat) (k : Int) (w : World) : Calls Tryz.prog 24 #[.slice a 0 c, .int .i64 k] w fun r w' => r = .returned (.int .i64 k) ∧ Below w.heap.size w w' := by
  have HB : Hid (Below w.heap.size w w) := Below.refl _ _
  go_enter Tryz.func24, Tryz.ntmps24
  go_wp2
  go_loopw [1, 5] (fun v i wr => i = .int .i64 0 ∧ v = .int .i64 k ∧ Hid (Below w.heap.size w wr)) (fun _ _ _ => 0)
  case atStart => exact ⟨rfl, rfl, HB⟩
  case round =>
    obtain ⟨rfl, rfl, HB1⟩ := hrel
    go_wp2
    go_ret
    exact ⟨rfl, HB1.out⟩

set_option maxRecDepth 10000 in
set_option maxHeartbeats 1600000 in
theorem markServer_any (base : Nat) (a : Option Addr) (n ca : Nat) (X : List ByteArray) (a' : Option Addr) (n' ca' : Nat) (Y : List ByteArray) (ep nx : Int) (ua : Option Addr) (un uc : Nat) (l : List UE) (ha : Option Addr) (hn hc : Nat) (hs : List Hd) (k : Nat) (w : World) (h : SvAt w base a n ca X a' n' ca' Y ua un uc l ha hn hc hs) (hn1 : n ≤ 2097152) (hn' : n' ≤ 2097152) (hk : k ≤ 1073741824) (hul : un ≤ 1099511627776) (hkE : mkUEnd (k + n + n') l ≤ 2199023255552) (hhn : hn ≤ 1099511627776) (hi : Nat) (hwi : SvIn a a' ua l ha hi) (hbe : SvBeh base a a' ua l ha) (hhi : hi ≤ w.heap.size) :
    Calls Tryz.prog 18 #[.agg #[.slice a n ca, .slice a' n' ca', .int .i64 ep, .int .i64 nx, .slice ua un uc, .slice ha hn hc], .int .i64 (k : Int)] w fun r w' => r = .returned (.int .i64 ((mkUEnd (k + n + n') l + 3 * hn : Nat) : Int)) ∧ SvMkd w' base k a n ca a' n' ca' ua un uc l ha hn hc ∧ Within w w' base hi := by
  obtain ⟨m, hbm, hsm, hhm⟩ := hbe
  have HI : Hid (SvIn a a' ua l ha hi ∧ hi ≤ w.heap.size) := ⟨hwi, hhi⟩
  have HM : Hid (StoIn a a' ua l m ∧ ∀ q, ha.map (·.block) = some q → m ≤ q) := ⟨hsm, hhm⟩
  obtain ⟨mm, hmm⟩ : ∃ mm, mm = min m hi := ⟨_, rfl⟩
  have HN : Hid (mm ≤ hi ∧ StoIn a a' ua l mm ∧ ∀ q, ha.map (·.block) = some q → mm ≤ q) := by
    refine ⟨by omega, ⟨fun q e => ?_, fun q e => ?_, fun q e => ?_, fun x hx q e => ?_⟩, fun q e => by have := hhm q e; omega⟩
    · have := hsm.1 q e; have := hwi.1.1 q e; omega
    · have := hsm.2.1 q e; have := hwi.1.2.1 q e; omega
    · have := hsm.2.2.1 q e; have := hwi.1.2.2.1 q e; omega
    · have := hsm.2.2.2 x hx q e; have := hwi.1.2.2.2 x hx q e; omega
  have HS : Hid (SvAt w base a n ca X a' n' ca' Y ua un uc l ha hn hc hs) := h
  have HK : Hid (mkUEnd (k + n + n') l ≤ 2199023255552) := hkE
  clear h hkE hwi hhi hsm hhm hmm HM
  have HA : Hid (BoxN (w.alloc (.cells #[.slice a n ca, .slice a' n' ca', .int .i64 ep, .int .i64 nx, .slice ua un uc, .slice ha hn hc] 39)) w.heap.size 39 [.slice a n ca, .slice a' n' ca', .int .i64 ep, .int .i64 nx, .slice ua un uc, .slice ha hn hc]) := BoxN.new _ _ _
  have HB : Hid (Below w.heap.size w (w.alloc (.cells #[.slice a n ca, .slice a' n' ca', .int .i64 ep, .int .i64 nx, .slice ua un uc, .slice ha hn hc] 39))) := (Below.refl _ _).alloc (Nat.le_refl _) _
  obtain ⟨x0, x1, x2, x3, x4⟩ := (show _ ∧ _ ∧ _ ∧ _ ∧ _ from ⟨HA.out.cell 0 rfl, HA.out.cell 1 rfl, HA.out.cell 2 rfl, HA.out.cell 3 rfl, HA.out.cell 4 rfl⟩)
  go_enter Tryz.func18, Tryz.ntmps18
  go_wp2_with fail
  obtain ⟨w0, hw0⟩ : ∃ w0, w.alloc (.cells #[.slice a n ca, .slice a' n' ca', .int .i64 ep, .int .i64 nx, .slice ua un uc, .slice ha hn hc] 39) = w0 := ⟨_, rfl⟩
  rw [hw0] at HA HB ⊢
  clear hw0 x0 x1 x2 x3 x4
  have HS0 : Hid (SvAt w0 base a n ca X a' n' ca' Y ua un uc l ha hn hc hs) := HS.out.stays HB.out
  refine (markStore_any base a n ca X a' n' ca' Y ep nx ua un uc l k w0 HS0.out.sto hn1 hn' hk hul HK.out mm HN.out.2.1).mono ?_
  rintro _ W1 ⟨rfl, hm1, hw1⟩
  have hh1 : OwnH W1 base ha hn hc hs := HS0.out.held.same (fun q e => hw1.block q (HS0.out.held.lt q e).2 (.inr (HN.out.2.2 q e)))
  have HM1 : Hid (StoMkd W1 base k a n ca a' n' ca' ua un uc l ∧ OwnH W1 base ha hn hc hs ∧ Within w W1 base hi) := ⟨hm1, hh1, ((within_below HB.out).trans (hw1.more (Nat.le_refl _) HN.out.1))⟩
  have hb1 : BoxN W1 w.heap.size 39 [.slice a n ca, .slice a' n' ca', .int .i64 ep, .int .i64 nx, .slice ua un uc, .slice ha hn hc] := (hw1.block _ HA.out.lt (.inr (Nat.le_trans HN.out.1 HI.out.2))).trans HA.out
  have c5 := hb1.cell 5 rfl
  obtain ⟨E, hE⟩ : ∃ E, mkUEnd (k + n + n') l = E := ⟨_, rfl⟩
  have HEe : Hid (mkUEnd (k + n + n') l = E) := hE
  have HEb : Hid (E ≤ 2199023255552) := by show _ ≤ _; rw [← hE]; exact HK.out
  rw [hE]
  clear hE hm1 hw1 hb1 hh1
  go_wp2_with fail
  refine (markHS_any base ha hn hc E hs W1 HM1.out.2.1 hhn HEb.out).mono ?_
  rintro _ W2 ⟨rfl, ho2, hg2⟩
  have HF : Hid (SvMkd W2 base k a n ca a' n' ca' ua un uc l ha hn hc ∧ Within w W2 base hi) := by
    refine ⟨⟨StoAt.keptH HM1.out.1 HM1.out.2.1.1 hg2, ?_⟩, HM1.out.2.2.trans (within_grown hg2 (fun q e => ⟨(HM1.out.2.1.lt q e).1, HI.out.1.2 q e⟩))⟩
    rw [HEe.out]
    exact ho2.helds
  obtain ⟨F, hF⟩ : ∃ F, E + 3 * hn = F := ⟨_, rfl⟩
  have HFe : Hid (mkUEnd (k + n + n') l + 3 * hn = F) := by show _ = _; rw [HEe.out]; exact hF
  rw [hF]
  clear ho2 hg2 hF
  go_wp2_with fail
  go_ret
  exact ⟨ret_i64 (by rw [HFe.out]), HF.out⟩

set_option maxRecDepth 10000 in
set_option maxHeartbeats 1600000 in
theorem heldServer_any (base : Nat) (a : Option Addr) (n ca : Nat) (a' : Option Addr) (n' ca' : Nat) (ep nx : Int) (ua : Option Addr) (un uc : Nat) (l : List UE) (ha : Option Addr) (hn hc : Nat) (k : Nat) (w : World) (h : SvMkd w base k a n ca a' n' ca' ua un uc l ha hn hc) (hn1 : n ≤ 2097152) (hn' : n' ≤ 2097152) (hk : k ≤ 1073741824) (hul : un ≤ 1099511627776) (hkE : mkUEnd (k + n + n') l ≤ 2199023255552) (hhn : hn ≤ 1099511627776) :
    Calls Tryz.prog 20 #[.agg #[.slice a n ca, .slice a' n' ca', .int .i64 ep, .int .i64 nx, .slice ua un uc, .slice ha hn hc], .int .i64 (k : Int)] w fun r w' => r = .returned (.int .i64 ((mkUEnd (k + n + n') l + 3 * hn : Nat) : Int)) ∧ Below w.heap.size w w' := by
  have HS : Hid (SvMkd w base k a n ca a' n' ca' ua un uc l ha hn hc) := h
  have HK : Hid (mkUEnd (k + n + n') l ≤ 2199023255552) := hkE
  clear h hkE
  have HA : Hid (BoxN (w.alloc (.cells #[.slice a n ca, .slice a' n' ca', .int .i64 ep, .int .i64 nx, .slice ua un uc, .slice ha hn hc] 39)) w.heap.size 39 [.slice a n ca, .slice a' n' ca', .int .i64 ep, .int .i64 nx, .slice ua un uc, .slice ha hn hc]) := BoxN.new _ _ _
  have HB : Hid (Below w.heap.size w (w.alloc (.cells #[.slice a n ca, .slice a' n' ca', .int .i64 ep, .int .i64 nx, .slice ua un uc, .slice ha hn hc] 39))) := (Below.refl _ _).alloc (Nat.le_refl _) _
  obtain ⟨x0, x1, x2, x3, x4⟩ := (show _ ∧ _ ∧ _ ∧ _ ∧ _ from ⟨HA.out.cell 0 rfl, HA.out.cell 1 rfl, HA.out.cell 2 rfl, HA.out.cell 3 rfl, HA.out.cell 4 rfl⟩)
  go_enter Tryz.func20, Tryz.ntmps20
  go_wp2_with fail
  obtain ⟨w0, hw0⟩ : ∃ w0, w.alloc (.cells #[.slice a n ca, .slice a' n' ca', .int .i64 ep, .int .i64 nx, .slice ua un uc, .slice ha hn hc] 39) = w0 := ⟨_, rfl⟩
  rw [hw0] at HA HB ⊢
  clear hw0 x0 x1 x2 x3 x4
  refine (heldStore_any base a n ca a' n' ca' ep nx ua un uc l k w0 (StoAt.stays HS.out.1 HB.out) hn1 hn' hk hul HK.out).mono ?_
  rintro _ W1 ⟨rfl, hb1⟩
  have HB1 : Hid (Below w.heap.size w W1) := HB.out.trans (hb1.mono HB.out.size)
  have c5 := (HA.out.stays hb1).cell 5 rfl
  obtain ⟨E, hE⟩ : ∃ E, mkUEnd (k + n + n') l = E := ⟨_, rfl⟩
  have HEe : Hid (mkUEnd (k + n + n') l = E) := hE
  have HEb : Hid (E ≤ 2199023255552) := by show _ ≤ _; rw [← hE]; exact HK.out
  have HH1 : Hid (Helds W1 ha hn (marksH E hn)) := by
    have h1 := HS.out.2
    rw [hE] at h1
    exact h1.below HB1.out
  rw [hE]
  clear hE hb1
  have hp : ¬ (E : Int) < 0 := by omega
  have hpd : decide ((E : Int) < 0) = false := by simp
  go_wp2_with fail
  refine (heldHS_any ha hn hc E W1 HH1.out hhn HEb.out).mono ?_
  rintro _ W2 ⟨rfl, hb2⟩
  have HB2 : Hid (Below w.heap.size w W2) := HB1.out.trans (hb2.mono HB1.out.size)
  obtain ⟨F, hF⟩ : ∃ F, E + 3 * hn = F := ⟨_, rfl⟩
  have HFe : Hid (mkUEnd (k + n + n') l + 3 * hn = F) := by show _ = _; rw [HEe.out]; exact hF
  rw [hF]
  have hq : ¬ (F : Int) < 0 := by omega
  have hqd : decide ((F : Int) < 0) = false := by simp
  clear hb2 hF
  go_wp2_with fail
  go_ret
  exact ⟨ret_i64 (by rw [HFe.out]), HB2.out⟩

end Go.Proofs.YtpjldfpipchmjavGreatDoor
