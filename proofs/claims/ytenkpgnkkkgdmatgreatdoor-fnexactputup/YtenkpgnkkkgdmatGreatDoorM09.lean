/- The marks laid into a store, and asked for. The marks of a row of uploads, asked for. Marks of texts that are asked for. -/
import Derived.Test.YtenkpgnkkkgdmatGreatDoorM08
import Derived.Test.YtenkpgnkkkgdmatGreatDoorM08
import Derived.Test.YtenkpgnkkkgdmatGreatDoorM08
import Derived.Test.YtenkpgnkkkgdmatGreatDoorM05
import Derived.Deep.RegionWith
namespace Go.Proofs.YtenkpgnkkkgdmatGreatDoor
open Go.RowKit
set_option linter.unusedVariables false

/-- The rows of a store with the marks in them, from k on. -/
def StoMkd (W : World) (base k : Nat) (a : Option Addr) (n ca : Nat) (a' : Option Addr) (n' ca' : Nat) (ua : Option Addr) (un uc : Nat) (l : List UE) : Prop :=
  StoAt W base a n ca (marksS k n) a' n' ca' (marksS (k + n) n') ua un uc (mkUp (k + n + n') l)

set_option maxRecDepth 10000 in
set_option maxHeartbeats 1600000 in
theorem markStore_any (base : Nat) (a : Option Addr) (n ca : Nat) (X : List ByteArray) (a' : Option Addr) (n' ca' : Nat) (Y : List ByteArray) (ep nx : Int) (ua : Option Addr) (un uc : Nat) (l : List UE) (k : Nat) (w : World) (h : StoAt w base a n ca X a' n' ca' Y ua un uc l) (hn : n ≤ 2097152) (hn' : n' ≤ 2097152) (hk : k ≤ 1073741824) (hul : un ≤ 1099511627776) (hkE : mkUEnd (k + n + n') l ≤ 2199023255552) (hi : Nat) (hwi : StoIn a a' ua l hi) :
    Calls Tryz.prog 10 #[.agg #[.slice a n ca, .slice a' n' ca', .int .i64 ep, .int .i64 nx, .slice ua un uc], .int .i64 (k : Int)] w fun r w' => r = .returned (.int .i64 (mkUEnd (k + n + n') l : Int)) ∧ StoMkd w' base k a n ca a' n' ca' ua un uc l ∧ Within w w' base hi := by
  have HHi : Hid (StoIn a a' ua l hi) := hwi
  clear hwi
  have HS : Hid (StoAt w base a n ca X a' n' ca' Y ua un uc l) := h
  have HK : Hid (mkUEnd (k + n + n') l ≤ 2199023255552) := hkE
  clear h hkE
  have HA : Hid (BoxN (w.alloc (.cells #[.slice a n ca, .slice a' n' ca', .int .i64 ep, .int .i64 nx, .slice ua un uc] 32)) w.heap.size 32 [.slice a n ca, .slice a' n' ca', .int .i64 ep, .int .i64 nx, .slice ua un uc]) := BoxN.new _ _ _
  have HB : Hid (Below w.heap.size w (w.alloc (.cells #[.slice a n ca, .slice a' n' ca', .int .i64 ep, .int .i64 nx, .slice ua un uc] 32))) := (Below.refl _ _).alloc (Nat.le_refl _) _
  go_enter Tryz.func10, Tryz.ntmps10
  go_wp2_with fail
  obtain ⟨w0, hw0⟩ : ∃ w0, w.alloc (.cells #[.slice a n ca, .slice a' n' ca', .int .i64 ep, .int .i64 nx, .slice ua un uc] 32) = w0 := ⟨_, rfl⟩
  rw [hw0] at HA HB ⊢
  clear hw0
  have HS0 : Hid (StoAt w0 base a n ca X a' n' ca' Y ua un uc l) := HS.out.stays HB.out
  have hww : w.heap.size < w0.heap.size := HA.out.lt
  refine (markDisk_any base a n ca X a' n' ca' Y k w0 HS0.out.now HS0.out.sure HS0.out.apart (by omega) (by omega) hk).mono ?_
  rintro _ x1 ⟨rfl, ho1, ho2, h2⟩
  have HT : Hid (Two w0 x1 (a.map (·.block)) (a'.map (·.block))) := h2
  have hU1 : UpRow x1 base (.slice ua un uc) l := by
    obtain ⟨y, g1, g2⟩ := h2
    have hy := HS0.out.ups.keptS HS0.out.now g1
    have hy2 : OwnSt y base (.slice a' n' ca') n' Y := HS0.out.sure.kept g1 (fun q hq hq2 => by rw [blk_own] at hq2; exact HS0.out.apart q hq hq2)
    exact hy.keptS hy2 g2
  have HB1 : Hid (Within w x1 base hi) := by
    obtain ⟨y, g1, g2⟩ := h2
    exact ((within_below HB.out).trans (within_grown g1 (fun q hq => ⟨(HS0.out.now.lt q (by rw [blk_own]; exact hq)).1, HHi.out.1 q hq⟩))).trans (within_grown g2 (fun q hq => ⟨(HS0.out.sure.lt q (by rw [blk_own]; exact hq)).1, HHi.out.2.1 q hq⟩))
  have hA1 : BoxN x1 w.heap.size 32 [.slice a n ca, .slice a' n' ca', .int .i64 ep, .int .i64 nx, .slice ua un uc] := by
    obtain ⟨y, g1, g2⟩ := h2
    refine (HA.out.grown g1 (fun e => ?_)).grown g2 (fun e => ?_)
    · have h9 := HS.out.now.lt w.heap.size (by rw [blk_own]; exact e); omega
    · have h9 := HS.out.sure.lt w.heap.size (by rw [blk_own]; exact e); omega
  have c4 := hA1.cell 4 rfl
  have HD1 : Hid (OwnSt x1 base (.slice a n ca) n (marksS k n) ∧ OwnSt x1 base (.slice a' n' ca') n' (marksS (k + n) n') ∧ UpRow x1 base (.slice ua un uc) l) := ⟨ho1, ho2, hU1⟩
  obtain ⟨K, hK⟩ : ∃ K, k + n + n' = K := ⟨_, rfl⟩
  have HKe : Hid (k + n + n' = K) := hK
  rw [hK] at HK ⊢
  have hKb : (K : Int) ≤ 2199023255552 := by have := HKe.out; omega
  clear hK ho1 ho2 h2 hU1 hA1
  go_wp2_with fail
  refine (markUpS_any base ua un uc K l x1 HD1.out.2.2 HS.out.len.symm HK.out hul hi HHi.out.2.2).mono ?_
  rintro _ x2 ⟨rfl, hu2, hb2, hk2⟩
  have HR : Hid (StoMkd x2 base k a n ca a' n' ca' ua un uc l ∧ Within w x2 base hi) := by
    refine ⟨⟨HD1.out.1.keptT hk2, HD1.out.2.1.keptT hk2, HS.out.apart, ?_, ?_⟩, HB1.out.trans hb2⟩
    · rw [HKe.out]; exact hu2
    · rw [mkUp_len]; exact HS.out.len
  obtain ⟨E, hE⟩ : ∃ E, mkUEnd K l = E := ⟨_, rfl⟩
  have HEe : Hid (mkUEnd K l = E) := hE
  rw [hE]
  clear hE hu2 hb2 hk2
  go_wp2_with fail
  go_ret
  exact ⟨ret_i64 (by rw [HKe.out, HEe.out]), HR.out.1, HR.out.2⟩

section
variable {W W' : World} {lo b : Nat} {a : Option Addr} {n ca : Nat} {X : List ByteArray} {a' : Option Addr} {n' ca' : Nat} {Y : List ByteArray} {ep nx : Int} {ua : Option Addr} {un uc : Nat} {l : List UE}

/-- The marks are in it. -/
theorem SAt.marked {k : Nat} (h : SAt W lo b a n ca X a' n' ca' Y ep nx ua un uc l) (hm : StoMkd W' lo k a n ca a' n' ca' ua un uc l) (hw : Within W W' lo b) : BoxN W' b 32 [.slice a n ca, .slice a' n' ca', .int .i64 ep, .int .i64 nx, .slice ua un uc] ∧ StoMkd W' lo k a n ca a' n' ca' ua un uc l :=
  ⟨(hw.block b h.box.lt (.inr (Nat.le_refl _))).trans h.box, hm⟩
end

end Go.Proofs.YtenkpgnkkkgdmatGreatDoor

namespace Go.Proofs.YtenkpgnkkkgdmatGreatDoor
open Go.RowKit
set_option linter.unusedVariables false

theorem held_intU (base : Nat) (a : Option Addr) (n cap k : Nat) (kk : Int) (w : World) (h : Owns w base a n cap (marks k n)) (hn : n ≤ 2199023255552) (hk : k ≤ 2199023255552) (hkk : kk = (k : Int)) :
    Calls Tryz.prog 67 #[.slice a n cap, .int .i64 kk] w fun e w' => e = .returned (.int .i64 ((k + n : Nat) : Int)) ∧ w' = w := by
  subst hkk
  exact held_any base a n cap k w h hn hk

set_option maxRecDepth 10000 in
set_option maxHeartbeats 3200000 in
theorem heldUpS_any (base : Nat) (a : Option Addr) (n cap k : Nat) (l : List UE) (w : World) (h : UpRow w base (.slice a n cap) (mkUp k l)) (hn : l.length = n) (hk : mkUEnd k l ≤ 2199023255552) (hnb : n ≤ 1099511627776) :
    Calls Tryz.prog 36 #[.slice a n cap, .int .i64 (k : Int)] w fun e w' => e = .returned (.int .i64 (mkUEnd k l : Int)) ∧ Below w.heap.size w w' := by
  have HO : Hid (UpRow w base (.slice a n cap) (mkUp k l)) := h
  have HN : Hid (l.length = n) := hn
  have HK : Hid (mkUEnd k l ≤ 2199023255552) := hk
  clear h hn hk
  go_enter Tryz.func36, Tryz.ntmps36
  go_wp2
  go_loopw [1, 5] (fun v i wr => ∃ j : Nat, j ≤ n ∧ i = .int .i64 j ∧ v = .int .i64 (mkUEnd k (l.take j) : Int) ∧ Hid (Below w.heap.size w wr)) (fun _ i _ => n - (intOf i).toNat)
  case atStart => exact ⟨0, Nat.zero_le _, rfl, rfl, Below.refl _ _⟩
  case round =>
    obtain ⟨j, hj, rfl, rfl, HW⟩ := hrel
    by_cases hlt : j < n
    · have hjl : j < l.length := by have := HN.out; omega
      have ht : l.take (j + 1) = l.take j ++ [l[j]] := List.take_succ_eq_append_getElem hjl
      have hml : (mkUp k (l.take j)).length = j := by rw [mkUp_len, List.length_take]; omega
      have HEnd : Hid (mkUEnd k (l.take (j + 1)) = mkUEnd k (l.take j) + 3 + (l[j]).n) := by show _ = _; rw [ht, mkUEnd_append]; rfl
      have hKb : mkUEnd k (l.take j) + 3 + (l[j]).n ≤ 2199023255552 := by
        have h1 := HK.out
        rw [← List.take_append_drop (j + 1) l, mkUEnd_append] at h1
        have h2 := mkUEnd_ge (mkUEnd k (l.take (j + 1))) (l.drop (j + 1))
        have h3 := HEnd.out
        omega
      have hFr : mkUp k l = mkUp k (l.take j) ++ mkU1 (mkUEnd k (l.take j)) (l[j]) :: mkUp (mkUEnd k (l.take j) + 3 + (l[j]).n) (l.drop (j + 1)) := by
        have hd : l = l.take j ++ l[j] :: l.drop (j + 1) := by rw [← List.drop_eq_getElem_cons hjl]; exact (List.take_append_drop j l).symm
        rw [show mkUp k l = mkUp k (l.take j ++ l[j] :: l.drop (j + 1)) from congrArg (mkUp k) hd, mkUp_append]
        rfl
      have hlen : (mkUp k l).length = n := by rw [mkUp_len]; exact HN.out
      have hge : (mkUp k l)[j]'(by omega) = mkU1 (mkUEnd k (l.take j)) (l[j]) := by
        have h1 : (mkUp k l)[j]? = some (mkU1 (mkUEnd k (l.take j)) (l[j])) := by
          rw [hFr, List.getElem?_append_right (by omega), hml, Nat.sub_self]
          rfl
        rw [List.getElem?_eq_getElem (by omega)] at h1
        exact Option.some.inj h1
      have HAt : Hid (∀ W, Below w.heap.size w W → ∃ g, a = some ⟨g, 0, none⟩ ∧ W.cell? ⟨g, j * 4, none⟩ = some (.string (mt (mkUEnd k (l.take j)))) ∧ W.cell? ⟨g, j * 4 + 1, none⟩ = some (.int .i64 ((mkUEnd k (l.take j) : Int) + 1)) ∧ W.cell? ⟨g, j * 4 + 2, none⟩ = some (.slice (l[j]).a (l[j]).n (l[j]).c) ∧ W.cell? ⟨g, j * 4 + 3, none⟩ = some (.bool (mbU (mkUEnd k (l.take j) + 2 + (l[j]).n))) ∧ Owns W base (l[j]).a (l[j]).n (l[j]).c (marks (mkUEnd k (l.take j) + 2) (l[j]).n)) := fun W hb => by
        have hO := HO.out.stays hb
        have hat := hO.at hlen.symm (i := j) (by omega)
        have hin := hO.2.1 ((mkUp k l)[j]'(by omega)) (List.getElem_mem _)
        rw [hge] at hat hin
        obtain ⟨g, h1, h2, h3, h4, h5, _⟩ := hat
        exact ⟨g, h1, h2, h3, h4, h5, hin⟩
      clear hge hFr ht hml hlen
      generalize mkUEnd k (l.take j) = K at *
      generalize l[j] = e at *
      obtain ⟨r, ea, en, ec⟩ := e
      dsimp only at *
      obtain ⟨g, rfl, _⟩ := HAt.out _ HW.out
      have hKi : (K : Int) ≤ 2199023255552 := by omega
      have hji : (j : Int) < (n : Int) := by omega
      have hj0 : (0 : Int) ≤ (j : Int) := by omega
      have hC : ∀ P : Past wr, P.world.cell? ⟨g, j * 4, none⟩ = some (.string (mt K)) := fun P => by
        obtain ⟨g', hg, h1, _⟩ := HAt.out _ (HW.out.trans (P.below.mono HW.out.size))
        injection hg with hg
        injection hg with hg
        subst hg
        exact h1
      have HTx : Hid (∀ P : Past wr, Calls Tryz.prog 65 #[.int .i64 (K : Int)] P.world fun e w' => e = .returned (.string (mt K)) ∧ Below P.world.heap.size P.world w') := fun P => markText_any K P.world (by omega)
      have hnp := past_some wr
      generalize mt K = T3 at *
      have n3 : (T3.toList != T3.toList) = false := by simp
      go_wp2_with fail
      refine wp_region_past (by kernel_rfl) (by kernel_rfl) ?_
      repeat (quiet_step ((first | (go_at_call 65; with_reducible exact calls_past (HTx.out _)) | fail)))
      refine wpQuiet_nil ?_
      rintro _ ⟨z, rfl⟩
      have HB2 : Hid (Below w.heap.size w z.world) := HW.out.trans (z.below.mono HW.out.size)
      obtain ⟨x1, hx1⟩ : ∃ x1, z.world = x1 := ⟨_, rfl⟩
      rw [hx1] at HB2 ⊢
      clear hx1 z hnp hC HTx HW
      obtain ⟨g', hg, _, c1, c2, c3, ho⟩ := HAt.out _ HB2.out
      injection hg with hg
      injection hg with hg
      subst hg
      have HE : Hid (Owns x1 base ea en ec (marks (K + 2) en)) := ho
      have n1 : ((K : Int) + 1 != (K : Int) + 1) = false := by simp
      clear ho HAt
      go_wp2_with fail
      refine (held_intU base ea en ec (K + 2) _ _ HE.out (by omega) (by omega) (by omega)).mono ?_
      rintro _ x1 ⟨rfl, rfl⟩
      obtain ⟨K4, hK4⟩ : ∃ K4, K + 2 + en = K4 := ⟨_, rfl⟩
      have HK4 : Hid (K + 2 + en = K4) := hK4
      rw [hK4] at c3 ⊢
      have hmb := mbU_is K4
      have hK4i : (K4 : Int) ≤ 2199023255552 := by omega
      have hK4p : ¬ (K4 : Int) < 0 := by omega
      have n4 : (mbU K4 != mbU K4) = false := by simp
      clear hK4
      go_wp2
      go_roundw
      case rel =>
        refine ⟨j + 1, by omega, by go_num, ?_, HB2⟩
        rw [HEnd.out]
        have := HK4.out
        go_num
      case measure => simp [intOf]; omega
    · have hjn : j = n := by omega
      subst hjn
      have hl := HN.out
      have HE : Hid (mkUEnd k (l.take j) = mkUEnd k l) := by show _ = _; rw [List.take_of_length_le (by omega)]
      generalize mkUEnd k (l.take j) = K at *
      go_wp2
      go_ret
      exact ⟨ret_int (by rw [HE.out]), HW.out⟩

end Go.Proofs.YtenkpgnkkkgdmatGreatDoor

namespace Go.Proofs.YtenkpgnkkkgdmatGreatDoor
open Go.RowKit
set_option linter.unusedVariables false

set_option maxRecDepth 10000 in
set_option maxHeartbeats 1600000 in
theorem heldStrS_any (a : Option Addr) (n cap k : Nat) (w : World) (h : Strs w a n (marksS k n)) (hn : n ≤ 1099511627776) (hk : k ≤ 1099511627776) :
    Calls Tryz.prog 66 #[.slice a n cap, .int .i64 (k : Int)] w fun e w' => e = .returned (.int .i64 ((k + n : Nat) : Int)) ∧ Below w.heap.size w w' := by
  have HX : Hid (Strs w a n (marksS k n)) := h
  clear h
  go_enter Tryz.func66, Tryz.ntmps66
  go_wp2_with fail
  go_loopw [1, 5] (fun q i wr => ∃ j : Nat, j ≤ n ∧ i = .int .i64 j ∧ q = .int .i64 ((k + j : Nat) : Int) ∧ Hid (Below w.heap.size w wr)) (fun _ i _ => n - (intOf i).toNat)
  case atStart => exact ⟨0, Nat.zero_le _, rfl, rfl, Below.refl _ _⟩
  case round =>
    obtain ⟨j, hj, rfl, rfl, HB⟩ := hrel
    by_cases hlt : j < n
    · obtain ⟨b, off, x, rfl, hb, hfx, hc0⟩ := (HX.out.below HB.out).at hlt
      obtain rfl : x = mt (k + j) := by
        rw [marksS_at k n j hlt] at hfx
        simp at hfx
        exact hfx.symm
      have hji : (j : Int) < (n : Int) := by omega
      have HM1 : Hid (∀ W, Calls Tryz.prog 65 #[.int .i64 ((k + j : Nat) : Int)] W fun e w' => e = .returned (.string (mt (k + j))) ∧ Below W.heap.size W w') := fun W => markText_any _ W (by omega)
      generalize mt (k + j) = m1 at *
      obtain ⟨K1, hK1⟩ : ∃ K1, k + (j + 1) = K1 := ⟨_, rfl⟩
      obtain ⟨K0, hK0⟩ : ∃ K0, k + j = K0 := ⟨_, rfl⟩
      have hq1 : (K0 : Int) + 1 = (K1 : Int) := by omega
      rw [hK0] at HM1 ⊢
      have HK1 : Hid (k + (j + 1) = K1) := hK1
      have hK0b : (K0 : Int) ≤ 4398046511104 := by omega
      clear hK0 hK1 hfx
      have hne1 : (m1.toList != m1.toList) = false := by simp
      have HC : Hid (∀ W, Below wr.heap.size wr W → W.cell? ⟨b, off + j, none⟩ = some (.string m1) ∧ Below w.heap.size w W) := fun W hW => ⟨(hW.cell (p := ⟨b, _, none⟩) hb).trans hc0, HB.out.trans (hW.mono HB.out.size)⟩
      go_wp2_with fail
      go_region_with (first
        | (go_at_call 65; refine (HM1.out _).mono ?_; rintro e x1 ⟨rfl, hb1⟩; have hb1' : Below wr.heap.size wr x1 := (Below.refl wr.heap.size wr).drew.trans (hb1.mono (Nat.le_refl _)); obtain ⟨k0, k2⟩ := HC.out x1 hb1'))
      all_goals
        have HB3 : Hid (Below w.heap.size w x1) := k2
        clear hb1 hb1' k0 k2 hc0
        go_wp2_with fail
        go_roundw
        case rel => exact ⟨j + 1, by omega, by go_num, by rw [HK1.out], HB3⟩
        case measure => simp [intOf]; omega
    · have hjn : j = n := by omega
      subst hjn
      go_wp2_with fail
      go_ret
      exact ⟨rfl, HB.out⟩

end Go.Proofs.YtenkpgnkkkgdmatGreatDoor
