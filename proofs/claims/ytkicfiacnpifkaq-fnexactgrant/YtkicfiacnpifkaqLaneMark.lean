/- Marks laid into lanes of a row of the call's own, and asked for. -/
import Derived.Test.YtkicfiacnpifkaqLaneRow
namespace Go.Proofs.Ytkicfiacnpifkaq
open Go.RowKit
set_option linter.unusedVariables false

/-- The marks: n lanes from k on. -/
def marksL (k n : Nat) : List Lane := (List.range n).map fun j => (((k + 2 * j : Nat) : Int), ((k + 2 * j + 1 : Nat) : Int))
theorem marksL_len (k n : Nat) : (marksL k n).length = n := by simp [marksL]
theorem marksL_at (k n j : Nat) (hj : j < n) : (marksL k n)[j]? = some (((k + 2 * j : Nat) : Int), ((k + 2 * j + 1 : Nat) : Int)) := by
  simp [marksL, hj]

/-- Lanes of which the first j are marked. -/
def markLnTo (k : Nat) (xs : List Lane) (j : Nat) : List Lane := marksL k j ++ xs.drop j

theorem markLnTo_len (k : Nat) (xs : List Lane) (j : Nat) (h : j ≤ xs.length) : (markLnTo k xs j).length = xs.length := by
  simp [markLnTo, marksL_len]
  omega

theorem markLnTo_step (k : Nat) (xs : List Lane) (j : Nat) (h : j < xs.length) : (markLnTo k xs j).set j (((k + 2 * j : Nat) : Int), ((k + 2 * j + 1 : Nat) : Int)) = markLnTo k xs (j + 1) := by
  rw [markLnTo, markLnTo, List.set_append_right j _ (by rw [marksL_len]; exact Nat.le_refl _), marksL_len, Nat.sub_self, List.drop_eq_getElem_cons h, List.set_cons_zero]
  simp [marksL, List.range_succ]

theorem marksL_range (k n : Nat) (hk : k ≤ 1099511627776) (hn : n ≤ 1099511627776) : ∀ s ∈ marksL k n, i64b s.1 ∧ i64b s.2 := by
  intro s hs
  simp only [marksL, List.mem_map, List.mem_range] at hs
  obtain ⟨j, hj, rfl⟩ := hs
  unfold i64b
  dsimp only
  omega

theorem only_trans {a b c : World} {r : Option Addr} (h : Only a b r) (g : Only b c r) : Only a c r :=
  ⟨g.os.trans h.os, g.tape.trans h.tape, g.output.trans h.output, Nat.le_trans h.size g.size, fun k hk hr => (g.block k (Nat.lt_of_lt_of_le hk h.size) hr).trans (h.block k hk hr)⟩

set_option maxRecDepth 10000 in
set_option maxHeartbeats 1600000 in
theorem markLS_any (base : Nat) (a : Option Addr) (n cap k : Nat) (xs : List Lane) (w : World) (h : OwnL w base a n cap xs) (hn : n ≤ 1099511627776) (hk : k ≤ 1099511627776) :
    Calls Try.prog 24 #[.slice a n cap, .int .i64 (k : Int)] w fun e w' => e = .returned (.int .i64 ((k + 2 * n : Nat) : Int)) ∧ OwnL w' base a n cap (marksL k n) ∧ Only w w' a := by
  have hlen := h.len
  have HO0 : Hid (w.ownsRow base 41 2 (.slice a n cap) n (laneCells (markLnTo k xs 0))) := h.1
  clear h
  go_enter Try.func24, Try.ntmps24
  go_wp2_with fail
  go_loopw [1, 5] (fun q i wr => ∃ j : Nat, j ≤ n ∧ i = .int .i64 j ∧ q = .int .i64 ((k + 2 * j : Nat) : Int) ∧ Hid (wr.ownsRow base 41 2 (.slice a n cap) n (laneCells (markLnTo k xs j))) ∧ Hid (Only w wr a)) (fun _ i _ => n - (intOf i).toNat)
  case atStart => exact ⟨0, Nat.zero_le _, rfl, rfl, HO0, ⟨rfl, rfl, rfl, Nat.le_refl _, fun _ _ _ => rfl⟩⟩
  case round =>
    clear HO0
    obtain ⟨j, hj, rfl, rfl, HO, HG⟩ := hrel
    by_cases hlt : j < n
    · obtain ⟨g, rfl⟩ : ∃ g, a = some ⟨g, 0, none⟩ := by
        rcases HO.out.2 with ⟨_, h0⟩ | ⟨g, cap', cur, he, _⟩
        · omega
        · injection he with e1 _ _
          exact ⟨g, e1⟩
      have hji : (j : Int) < (n : Int) := by omega
      have hq1 : ((k + 2 * j : Nat) : Int) + 1 = ((k + 2 * j + 1 : Nat) : Int) := by omega
      have hq2 : ((k + 2 * j + 1 : Nat) : Int) + 1 = ((k + 2 * (j + 1) : Nat) : Int) := by omega
      have hqb : ((k + 2 * j + 1 : Nat) : Int) ≤ 4398046511104 := by omega
      have HSt : Hid ((markLnTo k xs j).set j (((k + 2 * j : Nat) : Int), ((k + 2 * j + 1 : Nat) : Int)) = markLnTo k xs (j + 1)) := markLnTo_step k xs j (by omega)
      have HLn : Hid ((markLnTo k xs j).length = n) := by show _ = _; rw [markLnTo_len k xs j (by omega), hlen]
      generalize markLnTo k xs j = L at *
      obtain ⟨K2, hK2⟩ : ∃ K2, k + 2 * (j + 1) = K2 := ⟨_, rfl⟩
      obtain ⟨K1, hK1⟩ : ∃ K1, k + 2 * j + 1 = K1 := ⟨_, rfl⟩
      obtain ⟨K0, hK0⟩ : ∃ K0, k + 2 * j = K0 := ⟨_, rfl⟩
      rw [hK2] at hq2
      rw [hK1] at hq1 hq2 hqb HSt
      rw [hK0] at hq1 HSt ⊢
      have HK2 : Hid (k + 2 * (j + 1) = K2) := hK2
      have hK0b : (K0 : Int) ≤ 4398046511104 := by omega
      clear hK0 hK1 hK2
      have hln : (laneCells L).length = n * 2 := by rw [laneCells_len, HLn.out]
      have f0 : wr.frozen? ⟨g, j * 2, none⟩ = false := HO.out.frozenAt _
      obtain ⟨u0, hu0⟩ : ∃ u, wr.cell? ⟨g, j * 2, none⟩ = some u := by
        rw [HO.out.cellAt _ (by omega)]
        exact ⟨_, List.getElem?_eq_getElem (by omega)⟩
      have f1 : wr.frozen? ⟨g, j * 2 + 1, none⟩ = false := HO.out.frozenAt _
      obtain ⟨u1, hu1⟩ : ∃ u, wr.cell? ⟨g, j * 2 + 1, none⟩ = some u := by
        rw [HO.out.cellAt _ (by omega)]
        exact ⟨_, List.getElem?_eq_getElem (by omega)⟩
      have hst := HO.out.stored (j * 2) (.int .i64 (K0 : Int))
      have hst2 := hst.1.stored (j * 2 + 1) (.int .i64 (K1 : Int))
      have HO4 : Hid (((wr.setCell ⟨g, j * 2, none⟩ (.int .i64 (K0 : Int))).setCell ⟨g, j * 2 + 1, none⟩ (.int .i64 (K1 : Int))).ownsRow base 41 2 (.slice (some ⟨g, 0, none⟩) n cap) n (laneCells (markLnTo k xs (j + 1)))) := by
        have h1 := hst2.1
        rw [laneCells_set L _ _ j (by rw [HLn.out]; exact hlt), HSt.out] at h1
        exact h1
      have HG4 : Hid (Only w ((wr.setCell ⟨g, j * 2, none⟩ (.int .i64 (K0 : Int))).setCell ⟨g, j * 2 + 1, none⟩ (.int .i64 (K1 : Int))) (some ⟨g, 0, none⟩)) := only_trans HG.out (only_trans hst.2 hst2.2)
      clear hst hst2 hln HO HG
      go_wp2_with fail
      go_roundw
      case rel => exact ⟨j + 1, by omega, by go_num, by rw [HK2.out], HO4, HG4⟩
      case measure => simp [intOf]; omega
    · have hjn : j = n := by omega
      subst hjn
      go_wp2_with fail
      go_ret
      have hd : markLnTo k xs j = marksL k j := by
        rw [markLnTo, List.drop_eq_nil_of_le (by omega), List.append_nil]
      have h1 := HO.out
      rw [hd] at h1
      exact ⟨rfl, ⟨h1, marksL_range k j hk hn⟩, HG.out⟩

set_option maxRecDepth 10000 in
set_option maxHeartbeats 1600000 in
theorem heldLS_any (a : Option Addr) (n cap k : Nat) (w : World) (h : Lanes w a n (marksL k n)) (hn : n ≤ 1099511627776) (hk : k ≤ 1099511627776) :
    Calls Try.prog 25 #[.slice a n cap, .int .i64 (k : Int)] w fun e w' => e = .returned (.int .i64 ((k + 2 * n : Nat) : Int)) ∧ Below w.heap.size w w' := by
  have HX : Hid (Lanes w a n (marksL k n)) := h
  clear h
  go_enter Try.func25, Try.ntmps25
  go_wp2_with fail
  go_loopw [1, 5] (fun q i wr => ∃ j : Nat, j ≤ n ∧ i = .int .i64 j ∧ q = .int .i64 ((k + 2 * j : Nat) : Int) ∧ Hid (Below w.heap.size w wr)) (fun _ i _ => n - (intOf i).toNat)
  case atStart => exact ⟨0, Nat.zero_le _, rfl, rfl, Below.refl _ _⟩
  case round =>
    obtain ⟨j, hj, rfl, rfl, HB⟩ := hrel
    by_cases hlt : j < n
    · obtain ⟨b, off, x, y, rfl, hb, hfx, hc0, hc1, _, _⟩ := (HX.out.below HB.out).at hlt
      obtain ⟨rfl, rfl⟩ : x = ((k + 2 * j : Nat) : Int) ∧ y = ((k + 2 * j + 1 : Nat) : Int) := by
        rw [marksL_at k n j hlt] at hfx
        injection hfx with hfx
        injection hfx with h1 h2
        exact ⟨h1.symm, h2.symm⟩
      have hji : (j : Int) < (n : Int) := by omega
      have hq1 : ((k + 2 * j : Nat) : Int) + 1 = ((k + 2 * j + 1 : Nat) : Int) := by omega
      have hq2 : ((k + 2 * j + 1 : Nat) : Int) + 1 = ((k + 2 * (j + 1) : Nat) : Int) := by omega
      have hqb : ((k + 2 * j + 1 : Nat) : Int) ≤ 4398046511104 := by omega
      obtain ⟨K2, hK2⟩ : ∃ K2, k + 2 * (j + 1) = K2 := ⟨_, rfl⟩
      obtain ⟨K1, hK1⟩ : ∃ K1, k + 2 * j + 1 = K1 := ⟨_, rfl⟩
      obtain ⟨K0, hK0⟩ : ∃ K0, k + 2 * j = K0 := ⟨_, rfl⟩
      rw [hK2] at hq2
      rw [hK1] at hq1 hq2 hqb hc1
      rw [hK0] at hq1 hc0 ⊢
      have HK2 : Hid (k + 2 * (j + 1) = K2) := hK2
      have hK0b : (K0 : Int) ≤ 4398046511104 := by omega
      clear hK0 hK1 hK2 hfx
      have hne1 : ((K0 : Int) != (K0 : Int)) = false := by simp
      have hne2 : ((K1 : Int) != (K1 : Int)) = false := by simp
      go_wp2_with fail
      go_roundw
      case rel => exact ⟨j + 1, by omega, by go_num, by rw [HK2.out], HB⟩
      case measure => simp [intOf]; omega
    · have hjn : j = n := by omega
      subst hjn
      go_wp2_with fail
      go_ret
      exact ⟨rfl, HB.out⟩

end Go.Proofs.Ytkicfiacnpifkaq
