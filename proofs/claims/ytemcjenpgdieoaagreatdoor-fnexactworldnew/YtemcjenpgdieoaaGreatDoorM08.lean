/- The marks of a store, asked for. Marks laid into answers that wait, in a row of the call's own, and asked for. The marks laid into a server, and asked for: into its store, and into what waits behind it. Uploads held against themselves. Rows of texts against themselves. Disks held against themselves. Stores held against themselves. -/
import Derived.Test.YtemcjenpgdieoaaGreatDoorM06
import Derived.Test.YtemcjenpgdieoaaGreatDoorM07
import Derived.Test.YtemcjenpgdieoaaGreatDoorM07
import Derived.Test.YtemcjenpgdieoaaGreatDoorM04
import Derived.Test.YtemcjenpgdieoaaGreatDoorM05
import Derived.Deep.CutBlock
namespace Go.Proofs.YtemcjenpgdieoaaGreatDoor
open Go.RowKit
set_option linter.unusedVariables false

set_option maxRecDepth 10000 in
set_option maxHeartbeats 1600000 in
theorem heldStore_any (base : Nat) (a : Option Addr) (n ca : Nat) (a' : Option Addr) (n' ca' : Nat) (ep nx : Int) (ua : Option Addr) (un uc : Nat) (l : List UE) (k : Nat) (w : World) (h : StoMkd w base k a n ca a' n' ca' ua un uc l) (hn : n ≤ 2097152) (hn' : n' ≤ 2097152) (hk : k ≤ 1073741824) (hul : un ≤ 1099511627776) (hkE : mkUEnd (k + n + n') l ≤ 2199023255552) :
    Calls Tryz.prog 75 #[.agg #[.slice a n ca, .slice a' n' ca', .int .i64 ep, .int .i64 nx, .slice ua un uc], .int .i64 (k : Int)] w fun r w' => r = .returned (.int .i64 (mkUEnd (k + n + n') l : Int)) ∧ Below w.heap.size w w' := by
  have HS : Hid (∀ W, Below w.heap.size w W → StoMkd W base k a n ca a' n' ca' ua un uc l) := fun W hb => StoAt.stays h hb
  have HK : Hid (mkUEnd (k + n + n') l ≤ 2199023255552) := hkE
  clear h hkE
  have HA : Hid (BoxN (w.alloc (.cells #[.slice a n ca, .slice a' n' ca', .int .i64 ep, .int .i64 nx, .slice ua un uc] 29)) w.heap.size 29 [.slice a n ca, .slice a' n' ca', .int .i64 ep, .int .i64 nx, .slice ua un uc]) := BoxN.new _ _ _
  have HB : Hid (Below w.heap.size w (w.alloc (.cells #[.slice a n ca, .slice a' n' ca', .int .i64 ep, .int .i64 nx, .slice ua un uc] 29))) := (Below.refl _ _).alloc (Nat.le_refl _) _
  go_enter Tryz.func75, Tryz.ntmps75
  go_wp2_with fail
  obtain ⟨w0, hw0⟩ : ∃ w0, w.alloc (.cells #[.slice a n ca, .slice a' n' ca', .int .i64 ep, .int .i64 nx, .slice ua un uc] 29) = w0 := ⟨_, rfl⟩
  rw [hw0] at HA HB ⊢
  clear hw0
  refine (heldDisk_any a n ca a' n' ca' k w0 (HS.out _ HB.out).now.strs (HS.out _ HB.out).sure.strs (by omega) (by omega) hk).mono ?_
  rintro _ x1 ⟨rfl, hb1⟩
  have HB1 : Hid (Below w.heap.size w x1) := HB.out.trans (hb1.mono HB.out.size)
  have c4 := (HA.out.stays hb1).cell 4 rfl
  clear hb1
  obtain ⟨K, hK⟩ : ∃ K, k + n + n' = K := ⟨_, rfl⟩
  have HKe : Hid (k + n + n' = K) := hK
  rw [hK] at HK ⊢
  have hKb : (K : Int) ≤ 2199023255552 := by have := HKe.out; omega
  have hp1 : ¬ (K : Int) < 0 := by omega
  have hp1d : decide ((K : Int) < 0) = false := by simp
  have HU1 : Hid (UpRow x1 base (.slice ua un uc) (mkUp K l) ∧ l.length = un) := by
    have h1 := (HS.out _ HB1.out).ups
    have h2 := (HS.out _ HB1.out).len
    rw [hK] at h1
    rw [mkUp_len] at h2
    exact ⟨h1, h2.symm⟩
  clear hK
  go_wp2_with fail
  refine (heldUpS_any base ua un uc K l x1 HU1.out.1 HU1.out.2 HK.out hul).mono ?_
  rintro _ x2 ⟨rfl, hb2⟩
  have HB2 : Hid (Below w.heap.size w x2) := HB1.out.trans (hb2.mono HB1.out.size)
  obtain ⟨E, hE⟩ : ∃ E, mkUEnd K l = E := ⟨_, rfl⟩
  have HEe : Hid (mkUEnd K l = E) := hE
  rw [hE]
  have hp2 : ¬ (E : Int) < 0 := by omega
  have hp2d : decide ((E : Int) < 0) = false := by simp
  clear hE hb2
  go_wp2_with fail
  go_ret
  exact ⟨ret_i64 (by rw [HKe.out, HEe.out]), HB2.out⟩

end Go.Proofs.YtemcjenpgdieoaaGreatDoor

namespace Go.Proofs.YtemcjenpgdieoaaGreatDoor
open Go.RowKit
set_option linter.unusedVariables false

/-- The marks: n answers from k on. -/
def marksH (k n : Nat) : List Hd := (List.range n).map fun j => (((k + 3 * j : Nat) : Int), ((k + 3 * j + 1 : Nat) : Int), ((k + 3 * j + 2 : Nat) : Int))
theorem marksH_len (k n : Nat) : (marksH k n).length = n := by simp [marksH]
theorem marksH_at (k n j : Nat) (hj : j < n) : (marksH k n)[j]? = some (((k + 3 * j : Nat) : Int), ((k + 3 * j + 1 : Nat) : Int), ((k + 3 * j + 2 : Nat) : Int)) := by
  simp [marksH, hj]

/-- Answers of which the first j are marked. -/
def markHTo (k : Nat) (xs : List Hd) (j : Nat) : List Hd := marksH k j ++ xs.drop j

theorem markHTo_len (k : Nat) (xs : List Hd) (j : Nat) (h : j ≤ xs.length) : (markHTo k xs j).length = xs.length := by
  simp [markHTo, marksH_len]
  omega

theorem markHTo_step (k : Nat) (xs : List Hd) (j : Nat) (h : j < xs.length) : (markHTo k xs j).set j (((k + 3 * j : Nat) : Int), ((k + 3 * j + 1 : Nat) : Int), ((k + 3 * j + 2 : Nat) : Int)) = markHTo k xs (j + 1) := by
  rw [markHTo, markHTo, List.set_append_right j _ (by rw [marksH_len]; exact Nat.le_refl _), marksH_len, Nat.sub_self, List.drop_eq_getElem_cons h, List.set_cons_zero]
  simp [marksH, List.range_succ]

theorem marksH_range (k n : Nat) (hk : k ≤ 2199023255552) (hn : n ≤ 1099511627776) : ∀ s ∈ marksH k n, hd64 s := by
  intro s hs
  simp only [marksH, List.mem_map, List.mem_range] at hs
  obtain ⟨j, hj, rfl⟩ := hs
  unfold hd64 i64h
  dsimp only
  omega

theorem only_transH {a b c : World} {r : Option Addr} (h : Only a b r) (g : Only b c r) : Only a c r :=
  ⟨g.os.trans h.os, g.tape.trans h.tape, g.output.trans h.output, Nat.le_trans h.size g.size, fun k hk hr => (g.block k (Nat.lt_of_lt_of_le hk h.size) hr).trans (h.block k hk hr)⟩

set_option maxRecDepth 10000 in
set_option maxHeartbeats 1600000 in
theorem markHS_any (base : Nat) (a : Option Addr) (n cap k : Nat) (xs : List Hd) (w : World) (h : OwnH w base a n cap xs) (hn : n ≤ 1099511627776) (hk : k ≤ 2199023255552) :
    Calls Tryz.prog 33 #[.slice a n cap, .int .i64 (k : Int)] w fun e w' => e = .returned (.int .i64 ((k + 3 * n : Nat) : Int)) ∧ OwnH w' base a n cap (marksH k n) ∧ Only w w' a := by
  have hlen := h.len
  have HO0 : Hid (w.ownsRow base 88 3 (.slice a n cap) n (heCells (markHTo k xs 0))) := h.1
  clear h
  go_enter Tryz.func33, Tryz.ntmps33
  go_wp2_with fail
  go_loopw [1, 5] (fun q i wr => ∃ j : Nat, j ≤ n ∧ i = .int .i64 j ∧ q = .int .i64 ((k + 3 * j : Nat) : Int) ∧ Hid (wr.ownsRow base 88 3 (.slice a n cap) n (heCells (markHTo k xs j))) ∧ Hid (Only w wr a)) (fun _ i _ => n - (intOf i).toNat)
  case atStart => exact ⟨0, Nat.zero_le _, rfl, rfl, HO0, ⟨rfl, rfl, rfl, Nat.le_refl _, fun _ _ _ => rfl⟩⟩
  case round =>
    clear HO0
    obtain ⟨j, hj, rfl, rfl, HO, HG⟩ := hrel
    by_cases hlt : j < n
    · obtain ⟨g, rfl⟩ : ∃ g, a = some ⟨g, 0, none⟩ := by
        rcases HO.out.2 with ⟨_, h0⟩ | ⟨g, cap', cur, he, _⟩
        · omega
        · injection he with e1 _ _
          exact ⟨g, e1⟩
      have hji : (j : Int) < (n : Int) := by omega
      have hq1 : ((k + 3 * j : Nat) : Int) + 1 = ((k + 3 * j + 1 : Nat) : Int) := by omega
      have hq2 : ((k + 3 * j + 1 : Nat) : Int) + 1 = ((k + 3 * j + 2 : Nat) : Int) := by omega
      have hq3 : ((k + 3 * j + 2 : Nat) : Int) + 1 = ((k + 3 * (j + 1) : Nat) : Int) := by omega
      have hqb : ((k + 3 * j + 2 : Nat) : Int) ≤ 8796093022208 := by omega
      have HSt : Hid ((markHTo k xs j).set j (((k + 3 * j : Nat) : Int), ((k + 3 * j + 1 : Nat) : Int), ((k + 3 * j + 2 : Nat) : Int)) = markHTo k xs (j + 1)) := markHTo_step k xs j (by omega)
      have HLn : Hid ((markHTo k xs j).length = n) := by show _ = _; rw [markHTo_len k xs j (by omega), hlen]
      generalize markHTo k xs j = L at *
      obtain ⟨K3, hK3⟩ : ∃ K3, k + 3 * (j + 1) = K3 := ⟨_, rfl⟩
      obtain ⟨K2, hK2⟩ : ∃ K2, k + 3 * j + 2 = K2 := ⟨_, rfl⟩
      obtain ⟨K1, hK1⟩ : ∃ K1, k + 3 * j + 1 = K1 := ⟨_, rfl⟩
      obtain ⟨K0, hK0⟩ : ∃ K0, k + 3 * j = K0 := ⟨_, rfl⟩
      rw [hK3] at hq3
      rw [hK2] at hq2 hq3 hqb HSt
      rw [hK1] at hq1 hq2 HSt
      rw [hK0] at hq1 HSt ⊢
      have HK3 : Hid (k + 3 * (j + 1) = K3) := hK3
      have hK0b : (K0 : Int) ≤ 8796093022208 := by omega
      have hK1b : (K1 : Int) ≤ 8796093022208 := by omega
      clear hK0 hK1 hK2 hK3
      have hln : (heCells L).length = n * 3 := by rw [heCells_len, HLn.out]
      have f0 : wr.frozen? ⟨g, j * 3, none⟩ = false := HO.out.frozenAt _
      obtain ⟨u0, hu0⟩ : ∃ u, wr.cell? ⟨g, j * 3, none⟩ = some u := by
        rw [HO.out.cellAt _ (by omega)]
        exact ⟨_, List.getElem?_eq_getElem (by omega)⟩
      have f1 : wr.frozen? ⟨g, j * 3 + 1, none⟩ = false := HO.out.frozenAt _
      obtain ⟨u1, hu1⟩ : ∃ u, wr.cell? ⟨g, j * 3 + 1, none⟩ = some u := by
        rw [HO.out.cellAt _ (by omega)]
        exact ⟨_, List.getElem?_eq_getElem (by omega)⟩
      have f2 : wr.frozen? ⟨g, j * 3 + 2, none⟩ = false := HO.out.frozenAt _
      obtain ⟨u2, hu2⟩ : ∃ u, wr.cell? ⟨g, j * 3 + 2, none⟩ = some u := by
        rw [HO.out.cellAt _ (by omega)]
        exact ⟨_, List.getElem?_eq_getElem (by omega)⟩
      have hst := HO.out.stored (j * 3) (.int .i64 (K0 : Int))
      have hst2 := hst.1.stored (j * 3 + 1) (.int .i64 (K1 : Int))
      have hst3 := hst2.1.stored (j * 3 + 2) (.int .i64 (K2 : Int))
      have HO4 : Hid ((((wr.setCell ⟨g, j * 3, none⟩ (.int .i64 (K0 : Int))).setCell ⟨g, j * 3 + 1, none⟩ (.int .i64 (K1 : Int))).setCell ⟨g, j * 3 + 2, none⟩ (.int .i64 (K2 : Int))).ownsRow base 88 3 (.slice (some ⟨g, 0, none⟩) n cap) n (heCells (markHTo k xs (j + 1)))) := by
        have h1 := hst3.1
        rw [heCells_set L _ _ _ j (by rw [HLn.out]; exact hlt), HSt.out] at h1
        exact h1
      have HG4 : Hid (Only w (((wr.setCell ⟨g, j * 3, none⟩ (.int .i64 (K0 : Int))).setCell ⟨g, j * 3 + 1, none⟩ (.int .i64 (K1 : Int))).setCell ⟨g, j * 3 + 2, none⟩ (.int .i64 (K2 : Int))) (some ⟨g, 0, none⟩)) := only_transH HG.out (only_transH hst.2 (only_transH hst2.2 hst3.2))
      clear hst hst2 hst3 hln HO HG
      go_wp2_with fail
      go_roundw
      case rel => exact ⟨j + 1, by omega, by go_num, by rw [HK3.out], HO4, HG4⟩
      case measure => simp [intOf]; omega
    · have hjn : j = n := by omega
      subst hjn
      go_wp2_with fail
      go_ret
      have hd : markHTo k xs j = marksH k j := by
        rw [markHTo, List.drop_eq_nil_of_le (by omega), List.append_nil]
      have h1 := HO.out
      rw [hd] at h1
      exact ⟨rfl, ⟨h1, marksH_range k j hk hn⟩, HG.out⟩

set_option maxRecDepth 10000 in
set_option maxHeartbeats 1600000 in
theorem heldHS_any (a : Option Addr) (n cap k : Nat) (w : World) (h : Helds w a n (marksH k n)) (hn : n ≤ 1099511627776) (hk : k ≤ 2199023255552) :
    Calls Tryz.prog 39 #[.slice a n cap, .int .i64 (k : Int)] w fun e w' => e = .returned (.int .i64 ((k + 3 * n : Nat) : Int)) ∧ Below w.heap.size w w' := by
  have HX : Hid (Helds w a n (marksH k n)) := h
  clear h
  go_enter Tryz.func39, Tryz.ntmps39
  go_wp2_with fail
  go_loopw [1, 5] (fun q i wr => ∃ j : Nat, j ≤ n ∧ i = .int .i64 j ∧ q = .int .i64 ((k + 3 * j : Nat) : Int) ∧ Hid (Below w.heap.size w wr)) (fun _ i _ => n - (intOf i).toNat)
  case atStart => exact ⟨0, Nat.zero_le _, rfl, rfl, Below.refl _ _⟩
  case round =>
    obtain ⟨j, hj, rfl, rfl, HB⟩ := hrel
    by_cases hlt : j < n
    · obtain ⟨b, off, x, y, z, rfl, hb, hfx, hc0, hc1, hc2, _⟩ := (HX.out.below HB.out).at hlt
      obtain ⟨rfl, rfl, rfl⟩ : x = ((k + 3 * j : Nat) : Int) ∧ y = ((k + 3 * j + 1 : Nat) : Int) ∧ z = ((k + 3 * j + 2 : Nat) : Int) := by
        rw [marksH_at k n j hlt] at hfx
        injection hfx with hfx
        injection hfx with h1 h2
        injection h2 with h2 h3
        exact ⟨h1.symm, h2.symm, h3.symm⟩
      have hji : (j : Int) < (n : Int) := by omega
      have hq1 : ((k + 3 * j : Nat) : Int) + 1 = ((k + 3 * j + 1 : Nat) : Int) := by omega
      have hq2 : ((k + 3 * j + 1 : Nat) : Int) + 1 = ((k + 3 * j + 2 : Nat) : Int) := by omega
      have hq3 : ((k + 3 * j + 2 : Nat) : Int) + 1 = ((k + 3 * (j + 1) : Nat) : Int) := by omega
      have hqb : ((k + 3 * j + 2 : Nat) : Int) ≤ 8796093022208 := by omega
      obtain ⟨K3, hK3⟩ : ∃ K3, k + 3 * (j + 1) = K3 := ⟨_, rfl⟩
      obtain ⟨K2, hK2⟩ : ∃ K2, k + 3 * j + 2 = K2 := ⟨_, rfl⟩
      obtain ⟨K1, hK1⟩ : ∃ K1, k + 3 * j + 1 = K1 := ⟨_, rfl⟩
      obtain ⟨K0, hK0⟩ : ∃ K0, k + 3 * j = K0 := ⟨_, rfl⟩
      rw [hK3] at hq3
      rw [hK2] at hq2 hq3 hqb hc2
      rw [hK1] at hq1 hq2 hc1
      rw [hK0] at hq1 hc0 ⊢
      have HK3 : Hid (k + 3 * (j + 1) = K3) := hK3
      have hK0b : (K0 : Int) ≤ 8796093022208 := by omega
      have hK1b : (K1 : Int) ≤ 8796093022208 := by omega
      clear hK0 hK1 hK2 hK3 hfx
      have hne1 : ((K0 : Int) != (K0 : Int)) = false := by simp
      have hne2 : ((K1 : Int) != (K1 : Int)) = false := by simp
      have hne3 : ((K2 : Int) != (K2 : Int)) = false := by simp
      go_wp2_with fail
      go_roundw
      case rel => exact ⟨j + 1, by omega, by go_num, by rw [HK3.out], HB⟩
      case measure => simp [intOf]; omega
    · have hjn : j = n := by omega
      subst hjn
      go_wp2_with fail
      go_ret
      exact ⟨rfl, HB.out⟩

end Go.Proofs.YtemcjenpgdieoaaGreatDoor

namespace Go.Proofs.YtemcjenpgdieoaaGreatDoor
open Go.RowKit
set_option linter.unusedVariables false

/-- The rows of a server with the marks in them, from k on. -/
def SvMkd (W : World) (base k : Nat) (a : Option Addr) (n ca : Nat) (a' : Option Addr) (n' ca' : Nat) (ua : Option Addr) (un uc : Nat) (l : List UE) (ha : Option Addr) (hn hc : Nat) : Prop :=
  StoMkd W base k a n ca a' n' ca' ua un uc l ∧ Helds W ha hn (marksH (mkUEnd (k + n + n') l) hn)

theorem SvMkd.stays {W W' : World} {base k : Nat} {a : Option Addr} {n ca : Nat} {a' : Option Addr} {n' ca' : Nat} {ua : Option Addr} {un uc : Nat} {l : List UE} {ha : Option Addr} {hn hc : Nat} (h : SvMkd W base k a n ca a' n' ca' ua un uc l ha hn hc) (hb : Below W.heap.size W W') : SvMkd W' base k a n ca a' n' ca' ua un uc l ha hn hc := ⟨StoAt.stays h.1 hb, h.2.below hb⟩

/-- A store is as it was where a row of answers is written. -/
theorem StoAt.keptH {W W' : World} {base base' n ca : Nat} {a : Option Addr} {X : List ByteArray} {a' : Option Addr} {n' ca' : Nat} {Y : List ByteArray} {ua : Option Addr} {un uc : Nat} {l : List UE} {ha : Option Addr} {hn hc : Nat} {xs : List Value} (h : StoAt W base a n ca X a' n' ca' Y ua un uc l) (ho : W.ownsRow base' 88 3 (.slice ha hn hc) hn xs) (hg : Only W W' ha) : StoAt W' base a n ca X a' n' ca' Y ua un uc l := by
  have hg' : W.grownBy W' (Value.slice ha hn hc).ownBlock := by rw [ownBlock_sU]; exact hg
  refine ⟨h.now.keptR ho (by decide) hg', h.sure.keptR ho (by decide) hg', h.apart, h.ups.grown hg (fun q hq hq2 => ?_) (fun e he q hq hq2 => ?_), h.len⟩
  · exact rows_apart ho h.ups.1 (by decide) q (by rw [ownBlock_sU]; exact hq) hq2
  · exact rows_apart ho (h.ups.2.1 e he).1 (by decide) q (by rw [ownBlock_sU]; exact hq) (by rw [ownBlock_sU]; exact hq2)

/-- Marks asked of no answers, and laid into none. -/
theorem helds_zero {W : World} {a : Option Addr} {k : Nat} : Helds W a 0 (marksH k 0) := ⟨rfl, by simp [marksH], .inl rfl⟩

set_option maxRecDepth 10000 in
set_option maxHeartbeats 800000 in
theorem markHS_zero (a : Option Addr) (c : Nat) (k : Int) (w : World) : Calls Tryz.prog 33 #[.slice a 0 c, .int .i64 k] w fun r w' => r = .returned (.int .i64 k) ∧ Below w.heap.size w w' := by
  have HB : Hid (Below w.heap.size w w) := Below.refl _ _
  go_enter Tryz.func33, Tryz.ntmps33
  go_wp2
  go_loopw [1, 5] (fun v i wr => i = .int .i64 0 ∧ v = .int .i64 k ∧ Hid (Below w.heap.size w wr)) (fun _ _ _ => 0)
  case atStart => exact ⟨rfl, rfl, HB⟩
  case round =>
    obtain ⟨rfl, rfl, HB1⟩ := hrel
    go_wp2
    go_ret
    exact ⟨rfl, HB1.out⟩

set_option maxRecDepth 10000 in
set_option maxHeartbeats 1600000 in
theorem markServer_any (base : Nat) (a : Option Addr) (n ca : Nat) (X : List ByteArray) (a' : Option Addr) (n' ca' : Nat) (Y : List ByteArray) (ep nx : Int) (ua : Option Addr) (un uc : Nat) (l : List UE) (ha : Option Addr) (hn hc : Nat) (hs : List Hd) (k : Nat) (w : World) (h : SvAt w base a n ca X a' n' ca' Y ua un uc l ha hn hc hs) (hn1 : n ≤ 2097152) (hn' : n' ≤ 2097152) (hk : k ≤ 1073741824) (hul : un ≤ 1099511627776) (hkE : mkUEnd (k + n + n') l ≤ 2199023255552) (hhn : hn ≤ 1099511627776) (hi : Nat) (hwi : SvIn a a' ua l ha hi) (hbe : SvBeh base a a' ua l ha) (hhi : hi ≤ w.heap.size) :
    Calls Tryz.prog 30 #[.agg #[.slice a n ca, .slice a' n' ca', .int .i64 ep, .int .i64 nx, .slice ua un uc, .slice ha hn hc], .int .i64 (k : Int)] w fun r w' => r = .returned (.int .i64 ((mkUEnd (k + n + n') l + 3 * hn : Nat) : Int)) ∧ SvMkd w' base k a n ca a' n' ca' ua un uc l ha hn hc ∧ Within w w' base hi := by
  obtain ⟨m, hbm, hsm, hhm⟩ := hbe
  have HI : Hid (SvIn a a' ua l ha hi ∧ hi ≤ w.heap.size) := ⟨hwi, hhi⟩
  have HM : Hid (StoIn a a' ua l m ∧ ∀ q, ha.map (·.block) = some q → m ≤ q) := ⟨hsm, hhm⟩
  obtain ⟨mm, hmm⟩ : ∃ mm, mm = min m hi := ⟨_, rfl⟩
  have HN : Hid (mm ≤ hi ∧ StoIn a a' ua l mm ∧ ∀ q, ha.map (·.block) = some q → mm ≤ q) := by
    refine ⟨by omega, ⟨fun q e => ?_, fun q e => ?_, fun q e => ?_, fun x hx q e => ?_⟩, fun q e => by have := hhm q e; omega⟩
    · have := hsm.1 q e; have := hwi.1.1 q e; omega
    · have := hsm.2.1 q e; have := hwi.1.2.1 q e; omega
    · have := hsm.2.2.1 q e; have := hwi.1.2.2.1 q e; omega
    · have := hsm.2.2.2 x hx q e; have := hwi.1.2.2.2 x hx q e; omega
  have HS : Hid (SvAt w base a n ca X a' n' ca' Y ua un uc l ha hn hc hs) := h
  have HK : Hid (mkUEnd (k + n + n') l ≤ 2199023255552) := hkE
  clear h hkE hwi hhi hsm hhm hmm HM
  have HA : Hid (BoxN (w.alloc (.cells #[.slice a n ca, .slice a' n' ca', .int .i64 ep, .int .i64 nx, .slice ua un uc, .slice ha hn hc] 32)) w.heap.size 32 [.slice a n ca, .slice a' n' ca', .int .i64 ep, .int .i64 nx, .slice ua un uc, .slice ha hn hc]) := BoxN.new _ _ _
  have HB : Hid (Below w.heap.size w (w.alloc (.cells #[.slice a n ca, .slice a' n' ca', .int .i64 ep, .int .i64 nx, .slice ua un uc, .slice ha hn hc] 32))) := (Below.refl _ _).alloc (Nat.le_refl _) _
  obtain ⟨x0, x1, x2, x3, x4⟩ := (show _ ∧ _ ∧ _ ∧ _ ∧ _ from ⟨HA.out.cell 0 rfl, HA.out.cell 1 rfl, HA.out.cell 2 rfl, HA.out.cell 3 rfl, HA.out.cell 4 rfl⟩)
  go_enter Tryz.func30, Tryz.ntmps30
  go_wp2_with fail
  obtain ⟨w0, hw0⟩ : ∃ w0, w.alloc (.cells #[.slice a n ca, .slice a' n' ca', .int .i64 ep, .int .i64 nx, .slice ua un uc, .slice ha hn hc] 32) = w0 := ⟨_, rfl⟩
  rw [hw0] at HA HB ⊢
  clear hw0 x0 x1 x2 x3 x4
  have HS0 : Hid (SvAt w0 base a n ca X a' n' ca' Y ua un uc l ha hn hc hs) := HS.out.stays HB.out
  refine (markStore_any base a n ca X a' n' ca' Y ep nx ua un uc l k w0 HS0.out.sto hn1 hn' hk hul HK.out mm HN.out.2.1).mono ?_
  rintro _ W1 ⟨rfl, hm1, hw1⟩
  have hh1 : OwnH W1 base ha hn hc hs := HS0.out.held.same (fun q e => hw1.block q (HS0.out.held.lt q e).2 (.inr (HN.out.2.2 q e)))
  have HM1 : Hid (StoMkd W1 base k a n ca a' n' ca' ua un uc l ∧ OwnH W1 base ha hn hc hs ∧ Within w W1 base hi) := ⟨hm1, hh1, ((within_below HB.out).trans (hw1.more (Nat.le_refl _) HN.out.1))⟩
  have hb1 : BoxN W1 w.heap.size 32 [.slice a n ca, .slice a' n' ca', .int .i64 ep, .int .i64 nx, .slice ua un uc, .slice ha hn hc] := (hw1.block _ HA.out.lt (.inr (Nat.le_trans HN.out.1 HI.out.2))).trans HA.out
  have c5 := hb1.cell 5 rfl
  obtain ⟨E, hE⟩ : ∃ E, mkUEnd (k + n + n') l = E := ⟨_, rfl⟩
  have HEe : Hid (mkUEnd (k + n + n') l = E) := hE
  have HEb : Hid (E ≤ 2199023255552) := by show _ ≤ _; rw [← hE]; exact HK.out
  rw [hE]
  clear hE hm1 hw1 hb1 hh1
  go_wp2_with fail
  refine (markHS_any base ha hn hc E hs W1 HM1.out.2.1 hhn HEb.out).mono ?_
  rintro _ W2 ⟨rfl, ho2, hg2⟩
  have HF : Hid (SvMkd W2 base k a n ca a' n' ca' ua un uc l ha hn hc ∧ Within w W2 base hi) := by
    refine ⟨⟨StoAt.keptH HM1.out.1 HM1.out.2.1.1 hg2, ?_⟩, HM1.out.2.2.trans (within_grown hg2 (fun q e => ⟨(HM1.out.2.1.lt q e).1, HI.out.1.2 q e⟩))⟩
    rw [HEe.out]
    exact ho2.helds
  obtain ⟨F, hF⟩ : ∃ F, E + 3 * hn = F := ⟨_, rfl⟩
  have HFe : Hid (mkUEnd (k + n + n') l + 3 * hn = F) := by show _ = _; rw [HEe.out]; exact hF
  rw [hF]
  clear ho2 hg2 hF
  go_wp2_with fail
  go_ret
  exact ⟨ret_i64 (by rw [HFe.out]), HF.out⟩

set_option maxRecDepth 10000 in
set_option maxHeartbeats 1600000 in
theorem heldServer_any (base : Nat) (a : Option Addr) (n ca : Nat) (a' : Option Addr) (n' ca' : Nat) (ep nx : Int) (ua : Option Addr) (un uc : Nat) (l : List UE) (ha : Option Addr) (hn hc : Nat) (k : Nat) (w : World) (h : SvMkd w base k a n ca a' n' ca' ua un uc l ha hn hc) (hn1 : n ≤ 2097152) (hn' : n' ≤ 2097152) (hk : k ≤ 1073741824) (hul : un ≤ 1099511627776) (hkE : mkUEnd (k + n + n') l ≤ 2199023255552) (hhn : hn ≤ 1099511627776) :
    Calls Tryz.prog 35 #[.agg #[.slice a n ca, .slice a' n' ca', .int .i64 ep, .int .i64 nx, .slice ua un uc, .slice ha hn hc], .int .i64 (k : Int)] w fun r w' => r = .returned (.int .i64 ((mkUEnd (k + n + n') l + 3 * hn : Nat) : Int)) ∧ Below w.heap.size w w' := by
  have HS : Hid (SvMkd w base k a n ca a' n' ca' ua un uc l ha hn hc) := h
  have HK : Hid (mkUEnd (k + n + n') l ≤ 2199023255552) := hkE
  clear h hkE
  have HA : Hid (BoxN (w.alloc (.cells #[.slice a n ca, .slice a' n' ca', .int .i64 ep, .int .i64 nx, .slice ua un uc, .slice ha hn hc] 32)) w.heap.size 32 [.slice a n ca, .slice a' n' ca', .int .i64 ep, .int .i64 nx, .slice ua un uc, .slice ha hn hc]) := BoxN.new _ _ _
  have HB : Hid (Below w.heap.size w (w.alloc (.cells #[.slice a n ca, .slice a' n' ca', .int .i64 ep, .int .i64 nx, .slice ua un uc, .slice ha hn hc] 32))) := (Below.refl _ _).alloc (Nat.le_refl _) _
  obtain ⟨x0, x1, x2, x3, x4⟩ := (show _ ∧ _ ∧ _ ∧ _ ∧ _ from ⟨HA.out.cell 0 rfl, HA.out.cell 1 rfl, HA.out.cell 2 rfl, HA.out.cell 3 rfl, HA.out.cell 4 rfl⟩)
  go_enter Tryz.func35, Tryz.ntmps35
  go_wp2_with fail
  obtain ⟨w0, hw0⟩ : ∃ w0, w.alloc (.cells #[.slice a n ca, .slice a' n' ca', .int .i64 ep, .int .i64 nx, .slice ua un uc, .slice ha hn hc] 32) = w0 := ⟨_, rfl⟩
  rw [hw0] at HA HB ⊢
  clear hw0 x0 x1 x2 x3 x4
  refine (heldStore_any base a n ca a' n' ca' ep nx ua un uc l k w0 (StoAt.stays HS.out.1 HB.out) hn1 hn' hk hul HK.out).mono ?_
  rintro _ W1 ⟨rfl, hb1⟩
  have HB1 : Hid (Below w.heap.size w W1) := HB.out.trans (hb1.mono HB.out.size)
  have c5 := (HA.out.stays hb1).cell 5 rfl
  obtain ⟨E, hE⟩ : ∃ E, mkUEnd (k + n + n') l = E := ⟨_, rfl⟩
  have HEe : Hid (mkUEnd (k + n + n') l = E) := hE
  have HEb : Hid (E ≤ 2199023255552) := by show _ ≤ _; rw [← hE]; exact HK.out
  have HH1 : Hid (Helds W1 ha hn (marksH E hn)) := by
    have h1 := HS.out.2
    rw [hE] at h1
    exact h1.below HB1.out
  rw [hE]
  clear hE hb1
  have hp : ¬ (E : Int) < 0 := by omega
  have hpd : decide ((E : Int) < 0) = false := by simp
  go_wp2_with fail
  refine (heldHS_any ha hn hc E W1 HH1.out hhn HEb.out).mono ?_
  rintro _ W2 ⟨rfl, hb2⟩
  have HB2 : Hid (Below w.heap.size w W2) := HB1.out.trans (hb2.mono HB1.out.size)
  obtain ⟨F, hF⟩ : ∃ F, E + 3 * hn = F := ⟨_, rfl⟩
  have HFe : Hid (mkUEnd (k + n + n') l + 3 * hn = F) := by show _ = _; rw [HEe.out]; exact hF
  rw [hF]
  have hq : ¬ (F : Int) < 0 := by omega
  have hqd : decide ((F : Int) < 0) = false := by simp
  clear hb2 hF
  go_wp2_with fail
  go_ret
  exact ⟨ret_i64 (by rw [HFe.out]), HB2.out⟩

end Go.Proofs.YtemcjenpgdieoaaGreatDoor

namespace Go.Proofs.YtemcjenpgdieoaaGreatDoor
open Go.RowKit
set_option linter.unusedVariables false

set_option maxRecDepth 10000 in
set_option maxHeartbeats 1600000 in
theorem eqUp_same (x y : UE) (w : World) (hx : Seg w x.a x.n x.u.zs) (hy : Seg w y.a y.n y.u.zs) (hu : x.u = y.u) (hl : x.n ≤ 1099511627776) :
    Calls Tryz.prog 119 #[.agg #[.string x.u.id, .int .i64 x.u.want, .slice x.a x.n x.c, .bool x.u.done], .agg #[.string y.u.id, .int .i64 y.u.want, .slice y.a y.n y.c, .bool y.u.done]] w fun r w' => r = .returned (.bool true) ∧ Below w.heap.size w w' := by
  obtain ⟨u, a, n, c⟩ := x
  obtain ⟨u', b, m, d⟩ := y
  dsimp only at *
  subst hu
  obtain rfl : n = m := by rw [← hx.1, ← hy.1]
  have HX : Hid (Seg w a n u.zs) := hx
  have HY : Hid (Seg w b n u.zs) := hy
  clear hx hy
  have n1 : (u.want != u.want) = false := by simp
  have n2 : (u.id.toList != u.id.toList) = false := by simp
  have n3 : (u.done != u.done) = false := by simp
  go_enter Tryz.func119, Tryz.ntmps119
  go_wp2_with fail
  have hba : Below w.heap.size w ((w.alloc (.cells #[.string u.id, .int .i64 u.want, .slice a n c, .bool u.done] 147)).alloc (.cells #[.string u.id, .int .i64 u.want, .slice b n d, .bool u.done] 147)) := ((Below.refl _ _).alloc (Nat.le_refl _) _).alloc (by simp) _
  refine (eqByteS_same a b n c d u.zs _ (HX.out.below hba) (HY.out.below hba) hl).mono ?_
  rintro r x3 ⟨rfl, st3⟩
  have HB3 : Hid (Below w.heap.size w x3) := Still.below st3 hba
  clear hba
  obtain ⟨k, hk⟩ := st3
  subst hk
  go_wp2
  go_ret
  exact ⟨rfl, HB3.out⟩

set_option maxRecDepth 10000 in
set_option maxHeartbeats 1600000 in
theorem eqUpS_same (a : Option Addr) (n c lo : Nat) (l : List UE) (b : Option Addr) (m d lo' : Nat) (l' : List UE) (w : World) (h : UpRow w lo (.slice a n c) l) (h' : UpRow w lo' (.slice b m d) l') (hn : n = l.length) (hm : m = l'.length) (he : l.map UE.u = l'.map UE.u) (hl : n ≤ 1099511627776) (hz : ∀ e ∈ l, e.n ≤ 1099511627776) :
    Calls Tryz.prog 97 #[.slice a n c, .slice b m d] w fun e w' => e = .returned (.bool true) ∧ Below w.heap.size w w' := by
  obtain rfl : n = m := by
    have := congrArg List.length he
    rw [List.length_map, List.length_map] at this
    omega
  have HX : Hid (∀ W, Below w.heap.size w W → UpRow W lo (.slice a n c) l ∧ UpRow W lo' (.slice b n d) l') := fun W hb => ⟨h.stays hb, h'.stays hb⟩
  have HN : Hid (n = l.length) := hn
  have HM : Hid (n = l'.length) := hm
  have HE : Hid (l.map UE.u = l'.map UE.u) := he
  have HZ : Hid (∀ e ∈ l, e.n ≤ 1099511627776) := hz
  clear h h' hn hm he hz
  have hne : ((n : Int) != (n : Int)) = false := by simp
  go_enter Tryz.func97, Tryz.ntmps97
  go_wp2
  go_loopw [5] (fun i wr => ∃ k : Nat, k ≤ n ∧ i = .int .i64 k ∧ Hid (Below w.heap.size w wr)) (fun i _ => n - (intOf i).toNat)
  case atStart => exact ⟨0, Nat.zero_le _, rfl, Below.refl _ _⟩
  case round =>
    obtain ⟨k, hk, rfl, HW⟩ := hrel
    by_cases hlt : k < n
    · have hkl : k < l.length := by rw [← HN.out]; exact hlt
      have hkm : k < l'.length := by rw [← HM.out]; exact hlt
      obtain ⟨g, rfl, g0, g1, g2, g3, _⟩ := (HX.out _ HW.out).1.at HN.out hkl
      obtain ⟨q, rfl, q0, q1, q2, q3, _⟩ := (HX.out _ HW.out).2.at HM.out hkm
      have HU : Hid ((l[k]).u = (l'[k]).u) := by
        show _ = _
        have h1 := congrArg (fun z => z[k]?) HE.out
        simpa only [List.getElem?_map, List.getElem?_eq_getElem hkl, List.getElem?_eq_getElem hkm, Option.map_some, Option.some.injEq] using h1
      have HC : Hid (∀ P : Past wr, Calls Tryz.prog 119 #[.agg #[.string (l[k]).u.id, .int .i64 (l[k]).u.want, .slice (l[k]).a (l[k]).n (l[k]).c, .bool (l[k]).u.done], .agg #[.string (l'[k]).u.id, .int .i64 (l'[k]).u.want, .slice (l'[k]).a (l'[k]).n (l'[k]).c, .bool (l'[k]).u.done]] P.world fun r w' => r = .returned (.bool true) ∧ Below P.world.heap.size P.world w') := fun P => by
        have hb := HW.out.trans (P.below.mono HW.out.size)
        exact eqUp_same (l[k]) (l'[k]) P.world ((HX.out _ hb).1.2.1 _ (List.getElem_mem hkl)).seg ((HX.out _ hb).2.2.1 _ (List.getElem_mem hkm)).seg HU.out (HZ.out _ (List.getElem_mem hkl))
      have hki : (k : Int) < (n : Int) := by omega
      have hk0 : (0 : Int) ≤ (k : Int) := by omega
      have hgl := lt_of_cell g0
      have hql := lt_of_cell q0
      have x0 : ∀ P : Past wr, P.world.cell? ⟨g, k * 4, none⟩ = some (.string (l[k]).u.id) := fun P => P.cell hgl g0
      have x1 : ∀ P : Past wr, P.world.cell? ⟨g, k * 4 + 1, none⟩ = some (.int .i64 (l[k]).u.want) := fun P => P.cell hgl g1
      have x2 : ∀ P : Past wr, P.world.cell? ⟨g, k * 4 + 2, none⟩ = some (.slice (l[k]).a (l[k]).n (l[k]).c) := fun P => P.cell hgl g2
      have x3 : ∀ P : Past wr, P.world.cell? ⟨g, k * 4 + 3, none⟩ = some (.bool (l[k]).u.done) := fun P => P.cell hgl g3
      have y0 : ∀ P : Past wr, P.world.cell? ⟨q, k * 4, none⟩ = some (.string (l'[k]).u.id) := fun P => P.cell hql q0
      have y1 : ∀ P : Past wr, P.world.cell? ⟨q, k * 4 + 1, none⟩ = some (.int .i64 (l'[k]).u.want) := fun P => P.cell hql q1
      have y2 : ∀ P : Past wr, P.world.cell? ⟨q, k * 4 + 2, none⟩ = some (.slice (l'[k]).a (l'[k]).n (l'[k]).c) := fun P => P.cell hql q2
      have y3 : ∀ P : Past wr, P.world.cell? ⟨q, k * 4 + 3, none⟩ = some (.bool (l'[k]).u.done) := fun P => P.cell hql q3
      have hnp := past_some wr
      clear g0 g1 g2 g3 q0 q1 q2 q3 HU
      generalize l[k] = x at *
      generalize l'[k] = y at *
      go_wp2_with fail
      refine wp_region_past (by kernel_rfl) (by kernel_rfl) ?_
      repeat (quiet_step ((first | (go_at_call 119; with_reducible exact calls_past (HC.out _)) | fail)))
      refine wpQuiet_nil ?_
      rintro _ ⟨z, rfl⟩
      have HB3 : Hid (Below w.heap.size w z.world) := HW.out.trans (z.below.mono HW.out.size)
      go_wp2
      go_roundw
      case rel => exact ⟨k + 1, by omega, by go_num, HB3⟩
      case measure => simp [intOf]; omega
    · go_wp2
      go_ret
      exact ⟨rfl, HW.out⟩

end Go.Proofs.YtemcjenpgdieoaaGreatDoor

namespace Go.Proofs.YtemcjenpgdieoaaGreatDoor
open Go.RowKit
set_option linter.unusedVariables false

set_option maxHeartbeats 400000 in
theorem eqStrS_same (a b : Option Addr) (len ca cb : Nat) (xs : List ByteArray) (w : World) (hx : Strs w a len xs) (hy : Strs w b len xs) (hla : len ≤ 1099511627776) :
    Calls Tryz.prog 118 #[.slice a len ca, .slice b len cb] w fun e w' => e = .returned (.bool true) ∧ Below w.heap.size w w' := by
  have HX : Hid (Strs w a len xs) := hx
  have HY : Hid (Strs w b len xs) := hy
  clear hx hy
  have hne : ((len : Int) != (len : Int)) = false := by simp
  go_enter Tryz.func118, Tryz.ntmps118
  go_wp2
  go_loopw [5] (fun i wr => ∃ k : Nat, k ≤ len ∧ i = .int .i64 k ∧ Hid (Below w.heap.size w wr)) (fun i _ => len - (intOf i).toNat)
  case atStart => exact ⟨0, Nat.zero_le _, rfl, Below.refl _ _⟩
  case round =>
    obtain ⟨k, hk, rfl, HW⟩ := hrel
    by_cases hlt : k < len
    · obtain ⟨ba, oa, x, rfl, hba, hfa, ha0⟩ := HX.out.at hlt
      obtain ⟨bb, ob, x', rfl, hbb, hfb, hb0⟩ := HY.out.at hlt
      obtain rfl : x = x' := by rw [hfa] at hfb; simpa using hfb
      have ga0 : wr.cell? ⟨ba, oa + k, none⟩ = some (.string x) := (HW.out.cell (p := ⟨ba, _, none⟩) hba).trans ha0
      have gb0 : wr.cell? ⟨bb, ob + k, none⟩ = some (.string x) := (HW.out.cell (p := ⟨bb, _, none⟩) hbb).trans hb0
      clear hfa hfb ha0 hb0
      have hxx : (x.toList != x.toList) = false := by simp
      have hki : (k : Int) < (len : Int) := by omega
      have hk0 : (0 : Int) ≤ (k : Int) := by omega
      go_wp2
      go_quiet (fail)
      go_wp2
      go_roundw
      case rel => exact ⟨k + 1, by omega, by go_num, ⟨HW.out.os, HW.out.tape, HW.out.output, HW.out.size, HW.out.block⟩⟩
      case measure => simp [intOf]; omega
    · go_wp2
      go_ret
      exact ⟨rfl, HW.out⟩

end Go.Proofs.YtemcjenpgdieoaaGreatDoor

namespace Go.Proofs.YtemcjenpgdieoaaGreatDoor
open Go.RowKit
set_option linter.unusedVariables false

set_option maxHeartbeats 800000 in
theorem eqDisk_same (a b : Option Addr) (n ca cb : Nat) (xs : List ByteArray) (a' b' : Option Addr) (n' ca' cb' : Nat) (ys : List ByteArray) (w : World) (h1 : Strs w a n xs) (h2 : Strs w b n xs) (h3 : Strs w a' n' ys) (h4 : Strs w b' n' ys) (hn : n ≤ 1099511627776) (hn' : n' ≤ 1099511627776) :
    Calls Tryz.prog 96 #[.agg #[.slice a n ca, .slice a' n' ca'], .agg #[.slice b n cb, .slice b' n' cb']] w fun r w' => r = .returned (.bool true) ∧ Below w.heap.size w w' := by
  have HX : Hid (∀ W, Below w.heap.size w W → Strs W a n xs ∧ Strs W b n xs ∧ Strs W a' n' ys ∧ Strs W b' n' ys) := fun W h => ⟨h1.below h, h2.below h, h3.below h, h4.below h⟩
  clear h1 h2 h3 h4
  go_enter Tryz.func96, Tryz.ntmps96
  go_wp2_with fail
  have hba : Below w.heap.size w ((w.alloc (Obj.cells #[Value.slice a n ca, Value.slice a' n' ca'] 26)).alloc (Obj.cells #[Value.slice b n cb, Value.slice b' n' cb'] 26)) := ((Below.refl _ _).alloc (Nat.le_refl _) _).alloc (by simp) _
  have HA : Hid (Box2R ((w.alloc (Obj.cells #[Value.slice a n ca, Value.slice a' n' ca'] 26)).alloc (Obj.cells #[Value.slice b n cb, Value.slice b' n' cb'] 26)) w.heap.size 26 (.slice a n ca) (.slice a' n' ca')) := (Box2R.new _ _ _ _).alloc _
  have HC : Hid (Box2R ((w.alloc (Obj.cells #[Value.slice a n ca, Value.slice a' n' ca'] 26)).alloc (Obj.cells #[Value.slice b n cb, Value.slice b' n' cb'] 26)) (w.heap.size + 1) 26 (.slice b n cb) (.slice b' n' cb')) := by
    have := Box2R.new (w.alloc (Obj.cells #[Value.slice a n ca, Value.slice a' n' ca'] 26)) 26 (.slice b n cb) (.slice b' n' cb')
    rwa [World.size_alloc] at this
  have HB : Hid (Below w.heap.size w _) := hba
  clear hba
  refine (eqStrS_same a b n ca cb xs _ (HX.out _ HB.out).1 (HX.out _ HB.out).2.1 hn).mono ?_
  rintro r x3 ⟨rfl, hb3⟩
  have HB3 : Hid (Below w.heap.size w x3) := HB.out.trans (hb3.mono HB.out.size)
  obtain ⟨c0, c1⟩ := (HA.out.stays hb3).cells
  obtain ⟨d0, d1⟩ := (HC.out.stays hb3).cells
  clear hb3 HA HC HB
  go_wp2_with fail
  refine (eqStrS_same a' b' n' ca' cb' ys _ (HX.out _ HB3.out).2.2.1 (HX.out _ HB3.out).2.2.2 hn').mono ?_
  rintro r x4 ⟨rfl, hb4⟩
  have HB4 : Hid (Below w.heap.size w x4) := HB3.out.trans (hb4.mono HB3.out.size)
  clear hb4 HB3 c0 c1 d0 d1
  go_wp2_with fail
  go_ret
  exact ⟨rfl, HB4.out⟩

end Go.Proofs.YtemcjenpgdieoaaGreatDoor

namespace Go.Proofs.YtemcjenpgdieoaaGreatDoor
open Go.RowKit
set_option linter.unusedVariables false

set_option maxRecDepth 10000 in
set_option maxHeartbeats 1600000 in
theorem eqStore_same (a b : Option Addr) (n ca cb : Nat) (X : List ByteArray) (a' b' : Option Addr) (n' ca' cb' : Nat) (Y : List ByteArray) (ep nx : Int) (ua : Option Addr) (un uc lo : Nat) (l : List UE) (va : Option Addr) (vn vc lo' : Nat) (l' : List UE) (w : World) (h1 : Strs w a n X) (h2 : Strs w b n X) (h3 : Strs w a' n' Y) (h4 : Strs w b' n' Y) (hu : UpRow w lo (.slice ua un uc) l) (hv : UpRow w lo' (.slice va vn vc) l') (hun : un = l.length) (hvn : vn = l'.length) (he : l.map UE.u = l'.map UE.u) (hn : n ≤ 1099511627776) (hn' : n' ≤ 1099511627776) (hul : un ≤ 1099511627776) (hz : ∀ e ∈ l, e.n ≤ 1099511627776) :
    Calls Tryz.prog 70 #[.agg #[.slice a n ca, .slice a' n' ca', .int .i64 ep, .int .i64 nx, .slice ua un uc], .agg #[.slice b n cb, .slice b' n' cb', .int .i64 ep, .int .i64 nx, .slice va vn vc]] w fun r w' => r = .returned (.bool true) ∧ Below w.heap.size w w' := by
  obtain ⟨w0, hw0⟩ : ∃ w0, (w.alloc (.cells #[.slice a n ca, .slice a' n' ca', .int .i64 ep, .int .i64 nx, .slice ua un uc] 29)).alloc (.cells #[.slice b n cb, .slice b' n' cb', .int .i64 ep, .int .i64 nx, .slice va vn vc] 29) = w0 := ⟨_, rfl⟩
  have HE : Hid ((w.alloc (.cells #[.slice a n ca, .slice a' n' ca', .int .i64 ep, .int .i64 nx, .slice ua un uc] 29)).alloc (.cells #[.slice b n cb, .slice b' n' cb', .int .i64 ep, .int .i64 nx, .slice va vn vc] 29) = w0) := hw0
  have HB : Hid (Below w.heap.size w w0) := by show Below _ _ _; rw [← hw0]; exact ((Below.refl _ _).alloc (Nat.le_refl _) _).alloc (by simp) _
  have HP : Hid (BoxN w0 w.heap.size 29 [.slice a n ca, .slice a' n' ca', .int .i64 ep, .int .i64 nx, .slice ua un uc]) := by show BoxN _ _ _ _; rw [← hw0]; exact (BoxN.new _ _ _).alloc _
  have HQ : Hid (BoxN w0 (w.heap.size + 1) 29 [.slice b n cb, .slice b' n' cb', .int .i64 ep, .int .i64 nx, .slice va vn vc]) := by
    show BoxN _ _ _ _
    rw [← hw0]
    have := BoxN.new (w.alloc (.cells #[.slice a n ca, .slice a' n' ca', .int .i64 ep, .int .i64 nx, .slice ua un uc] 29)) 29 [.slice b n cb, .slice b' n' cb', .int .i64 ep, .int .i64 nx, .slice va vn vc]
    rw [World.size_alloc] at this
    exact this
  have HX : Hid (∀ W, Below w0.heap.size w0 W → BoxN W w.heap.size 29 [.slice a n ca, .slice a' n' ca', .int .i64 ep, .int .i64 nx, .slice ua un uc] ∧ BoxN W (w.heap.size + 1) 29 [.slice b n cb, .slice b' n' cb', .int .i64 ep, .int .i64 nx, .slice va vn vc] ∧ Strs W a n X ∧ Strs W b n X ∧ Strs W a' n' Y ∧ Strs W b' n' Y ∧ UpRow W lo (.slice ua un uc) l ∧ UpRow W lo' (.slice va vn vc) l' ∧ Below w.heap.size w W) := fun W hb => ⟨HP.out.stays hb, HQ.out.stays hb, (h1.below HB.out).below hb, (h2.below HB.out).below hb, (h3.below HB.out).below hb, (h4.below HB.out).below hb, (hu.stays HB.out).stays hb, (hv.stays HB.out).stays hb, HB.out.trans (hb.mono HB.out.size)⟩
  have HU : Hid (un = l.length ∧ vn = l'.length ∧ l.map UE.u = l'.map UE.u ∧ ∀ e ∈ l, e.n ≤ 1099511627776) := ⟨hun, hvn, he, hz⟩
  clear hw0 HB HP HQ h1 h2 h3 h4 hu hv hun hvn he hz
  have HA0 : Hid (Below w0.heap.size w0 w0) := Below.refl _ _
  have x0 := (HX.out _ HA0.out).1.cell 0 rfl
  have x1 := (HX.out _ HA0.out).1.cell 1 rfl
  have y0 := (HX.out _ HA0.out).2.1.cell 0 rfl
  have y1 := (HX.out _ HA0.out).2.1.cell 1 rfl
  have ne1 : (ep != ep) = false := by simp
  have ne2 : (nx != nx) = false := by simp
  go_enter Tryz.func70, Tryz.ntmps70
  go_upto_region 1 with fail
  rw [HE.out]
  clear HE
  go_wp2_with fail
  refine (eqDisk_same a b n ca cb X a' b' n' ca' cb' Y w0 (HX.out _ HA0.out).2.2.1 (HX.out _ HA0.out).2.2.2.1 (HX.out _ HA0.out).2.2.2.2.1 (HX.out _ HA0.out).2.2.2.2.2.1 hn hn').mono ?_
  rintro _ W1 ⟨rfl, hb1⟩
  have HB1 : Hid (Below w0.heap.size w0 W1) := hb1
  clear hb1 x0 x1 y0 y1
  have c2 := (HX.out _ HB1.out).1.cell 2 rfl
  have c3 := (HX.out _ HB1.out).1.cell 3 rfl
  have c4 := (HX.out _ HB1.out).1.cell 4 rfl
  have d2 := (HX.out _ HB1.out).2.1.cell 2 rfl
  have d3 := (HX.out _ HB1.out).2.1.cell 3 rfl
  have d4 := (HX.out _ HB1.out).2.1.cell 4 rfl
  go_wp2_with fail
  refine (eqUpS_same ua un uc lo l va vn vc lo' l' W1 (HX.out _ HB1.out).2.2.2.2.2.2.1 (HX.out _ HB1.out).2.2.2.2.2.2.2.1 HU.out.1 HU.out.2.1 HU.out.2.2.1 hul HU.out.2.2.2).mono ?_
  rintro _ W2 ⟨rfl, hb2⟩
  have HB2 : Hid (Below w.heap.size w W2) := (HX.out _ (HB1.out.trans (hb2.mono HB1.out.size))).2.2.2.2.2.2.2.2
  clear hb2
  go_wp2_with fail
  go_ret
  exact ⟨rfl, HB2.out⟩

end Go.Proofs.YtemcjenpgdieoaaGreatDoor
