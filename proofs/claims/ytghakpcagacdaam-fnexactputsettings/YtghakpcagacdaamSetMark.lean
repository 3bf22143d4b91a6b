/- Marks laid into settings of a row of the call's own, and asked for. -/
import Derived.Test.YtghakpcagacdaamSetRow
namespace Go.Proofs.Ytghakpcagacdaam
open Go.RowKit
set_option linter.unusedVariables false

/-- The marks: n settings from k on. -/
def marksS (k n : Nat) : List Sett := (List.range n).map fun j => (((k + 2 * j : Nat) : Int), ((k + 2 * j + 1 : Nat) : Int))
theorem marksS_len (k n : Nat) : (marksS k n).length = n := by simp [marksS]
theorem marksS_at (k n j : Nat) (hj : j < n) : (marksS k n)[j]? = some (((k + 2 * j : Nat) : Int), ((k + 2 * j + 1 : Nat) : Int)) := by
  simp [marksS, hj]

/-- Settings of which the first j are marked. -/
def markStTo (k : Nat) (xs : List Sett) (j : Nat) : List Sett := marksS k j ++ xs.drop j

theorem markStTo_len (k : Nat) (xs : List Sett) (j : Nat) (h : j ≤ xs.length) : (markStTo k xs j).length = xs.length := by
  simp [markStTo, marksS_len]
  omega

theorem markStTo_step (k : Nat) (xs : List Sett) (j : Nat) (h : j < xs.length) : (markStTo k xs j).set j (((k + 2 * j : Nat) : Int), ((k + 2 * j + 1 : Nat) : Int)) = markStTo k xs (j + 1) := by
  rw [markStTo, markStTo, List.set_append_right j _ (by rw [marksS_len]; exact Nat.le_refl _), marksS_len, Nat.sub_self, List.drop_eq_getElem_cons h, List.set_cons_zero]
  simp [marksS, List.range_succ]

theorem marksS_range (k n : Nat) (hk : k ≤ 1099511627776) (hn : n ≤ 1099511627776) : ∀ s ∈ marksS k n, i64b s.1 ∧ i64b s.2 := by
  intro s hs
  simp only [marksS, List.mem_map, List.mem_range] at hs
  obtain ⟨j, hj, rfl⟩ := hs
  unfold i64b
  dsimp only
  omega

theorem only_trans {a b c : World} {r : Option Addr} (h : Only a b r) (g : Only b c r) : Only a c r :=
  ⟨g.os.trans h.os, g.tape.trans h.tape, g.output.trans h.output, Nat.le_trans h.size g.size, fun k hk hr => (g.block k (Nat.lt_of_lt_of_le hk h.size) hr).trans (h.block k hk hr)⟩

set_option maxRecDepth 10000 in
set_option maxHeartbeats 1600000 in
theorem markSS_any (base : Nat) (a : Option Addr) (n cap k : Nat) (xs : List Sett) (w : World) (h : OwnS w base a n cap xs) (hn : n ≤ 1099511627776) (hk : k ≤ 1099511627776) :
    Calls Try.prog 34 #[.slice a n cap, .int .i64 (k : Int)] w fun e w' => e = .returned (.int .i64 ((k + 2 * n : Nat) : Int)) ∧ OwnS w' base a n cap (marksS k n) ∧ Only w w' a := by
  have hlen := h.len
  have HO0 : Hid (w.ownsRow base 63 2 (.slice a n cap) n (setCells (markStTo k xs 0))) := h.1
  clear h
  go_enter Try.func34, Try.ntmps34
  go_wp2_with fail
  go_loopw [1, 5] (fun q i wr => ∃ j : Nat, j ≤ n ∧ i = .int .i64 j ∧ q = .int .i64 ((k + 2 * j : Nat) : Int) ∧ Hid (wr.ownsRow base 63 2 (.slice a n cap) n (setCells (markStTo k xs j))) ∧ Hid (Only w wr a)) (fun _ i _ => n - (intOf i).toNat)
  case atStart => exact ⟨0, Nat.zero_le _, rfl, rfl, HO0, ⟨rfl, rfl, rfl, Nat.le_refl _, fun _ _ _ => rfl⟩⟩
  case round =>
    clear HO0
    obtain ⟨j, hj, rfl, rfl, HO, HG⟩ := hrel
    by_cases hlt : j < n
    · obtain ⟨g, rfl⟩ : ∃ g, a = some ⟨g, 0, none⟩ := by
        rcases HO.out.2 with ⟨_, h0⟩ | ⟨g, cap', cur, he, _⟩
        · omega
        · injection he with e1 _ _
          exact ⟨g, e1⟩
      have hji : (j : Int) < (n : Int) := by omega
      have hq1 : ((k + 2 * j : Nat) : Int) + 1 = ((k + 2 * j + 1 : Nat) : Int) := by omega
      have hq2 : ((k + 2 * j + 1 : Nat) : Int) + 1 = ((k + 2 * (j + 1) : Nat) : Int) := by omega
      have hqb : ((k + 2 * j + 1 : Nat) : Int) ≤ 4398046511104 := by omega
      have HSt : Hid ((markStTo k xs j).set j (((k + 2 * j : Nat) : Int), ((k + 2 * j + 1 : Nat) : Int)) = markStTo k xs (j + 1)) := markStTo_step k xs j (by omega)
      have HLn : Hid ((markStTo k xs j).length = n) := by show _ = _; rw [markStTo_len k xs j (by omega), hlen]
      generalize markStTo k xs j = L at *
      obtain ⟨K2, hK2⟩ : ∃ K2, k + 2 * (j + 1) = K2 := ⟨_, rfl⟩
      obtain ⟨K1, hK1⟩ : ∃ K1, k + 2 * j + 1 = K1 := ⟨_, rfl⟩
      obtain ⟨K0, hK0⟩ : ∃ K0, k + 2 * j = K0 := ⟨_, rfl⟩
      rw [hK2] at hq2
      rw [hK1] at hq1 hq2 hqb HSt
      rw [hK0] at hq1 HSt ⊢
      have HK2 : Hid (k + 2 * (j + 1) = K2) := hK2
      have hK0b : (K0 : Int) ≤ 4398046511104 := by omega
      clear hK0 hK1 hK2
      have hln : (setCells L).length = n * 2 := by rw [setCells_len, HLn.out]
      have f0 : wr.frozen? ⟨g, j * 2, none⟩ = false := HO.out.frozenAt _
      obtain ⟨u0, hu0⟩ : ∃ u, wr.cell? ⟨g, j * 2, none⟩ = some u := by
        rw [HO.out.cellAt _ (by omega)]
        exact ⟨_, List.getElem?_eq_getElem (by omega)⟩
      have f1 : wr.frozen? ⟨g, j * 2 + 1, none⟩ = false := HO.out.frozenAt _
      obtain ⟨u1, hu1⟩ : ∃ u, wr.cell? ⟨g, j * 2 + 1, none⟩ = some u := by
        rw [HO.out.cellAt _ (by omega)]
        exact ⟨_, List.getElem?_eq_getElem (by omega)⟩
      have hst := HO.out.stored (j * 2) (.int .i64 (K0 : Int))
      have hst2 := hst.1.stored (j * 2 + 1) (.int .i64 (K1 : Int))
      have HO4 : Hid (((wr.setCell ⟨g, j * 2, none⟩ (.int .i64 (K0 : Int))).setCell ⟨g, j * 2 + 1, none⟩ (.int .i64 (K1 : Int))).ownsRow base 63 2 (.slice (some ⟨g, 0, none⟩) n cap) n (setCells (markStTo k xs (j + 1)))) := by
        have h1 := hst2.1
        rw [setCells_set L _ _ j (by rw [HLn.out]; exact hlt), HSt.out] at h1
        exact h1
      have HG4 : Hid (Only w ((wr.setCell ⟨g, j * 2, none⟩ (.int .i64 (K0 : Int))).setCell ⟨g, j * 2 + 1, none⟩ (.int .i64 (K1 : Int))) (some ⟨g, 0, none⟩)) := only_trans HG.out (only_trans hst.2 hst2.2)
      clear hst hst2 hln HO HG
      go_wp2_with fail
      go_roundw
      case rel => exact ⟨j + 1, by omega, by go_num, by rw [HK2.out], HO4, HG4⟩
      case measure => simp [intOf]; omega
    · have hjn : j = n := by omega
      subst hjn
      go_wp2_with fail
      go_ret
      have hd : markStTo k xs j = marksS k j := by
        rw [markStTo, List.drop_eq_nil_of_le (by omega), List.append_nil]
      have h1 := HO.out
      rw [hd] at h1
      exact ⟨rfl, ⟨h1, marksS_range k j hk hn⟩, HG.out⟩

set_option maxRecDepth 10000 in
set_option maxHeartbeats 1600000 in
theorem heldSS_any (a : Option Addr) (n cap k : Nat) (w : World) (h : Setts w a n (marksS k n)) (hn : n ≤ 1099511627776) (hk : k ≤ 1099511627776) :
    Calls Try.prog 37 #[.slice a n cap, .int .i64 (k : Int)] w fun e w' => e = .returned (.int .i64 ((k + 2 * n : Nat) : Int)) ∧ Below w.heap.size w w' := by
  have HX : Hid (Setts w a n (marksS k n)) := h
  clear h
  go_enter Try.func37, Try.ntmps37
  go_wp2_with fail
  go_loopw [1, 5] (fun q i wr => ∃ j : Nat, j ≤ n ∧ i = .int .i64 j ∧ q = .int .i64 ((k + 2 * j : Nat) : Int) ∧ Hid (Below w.heap.size w wr)) (fun _ i _ => n - (intOf i).toNat)
  case atStart => exact ⟨0, Nat.zero_le _, rfl, rfl, Below.refl _ _⟩
  case round =>
    obtain ⟨j, hj, rfl, rfl, HB⟩ := hrel
    by_cases hlt : j < n
    · obtain ⟨b, off, x, y, rfl, hb, hfx, hc0, hc1, _, _⟩ := (HX.out.below HB.out).at hlt
      obtain ⟨rfl, rfl⟩ : x = ((k + 2 * j : Nat) : Int) ∧ y = ((k + 2 * j + 1 : Nat) : Int) := by
        rw [marksS_at k n j hlt] at hfx
        injection hfx with hfx
        injection hfx with h1 h2
        exact ⟨h1.symm, h2.symm⟩
      have hji : (j : Int) < (n : Int) := by omega
      have hq1 : ((k + 2 * j : Nat) : Int) + 1 = ((k + 2 * j + 1 : Nat) : Int) := by omega
      have hq2 : ((k + 2 * j + 1 : Nat) : Int) + 1 = ((k + 2 * (j + 1) : Nat) : Int) := by omega
      have hqb : ((k + 2 * j + 1 : Nat) : Int) ≤ 4398046511104 := by omega
      obtain ⟨K2, hK2⟩ : ∃ K2, k + 2 * (j + 1) = K2 := ⟨_, rfl⟩
      obtain ⟨K1, hK1⟩ : ∃ K1, k + 2 * j + 1 = K1 := ⟨_, rfl⟩
      obtain ⟨K0, hK0⟩ : ∃ K0, k + 2 * j = K0 := ⟨_, rfl⟩
      rw [hK2] at hq2
      rw [hK1] at hq1 hq2 hqb hc1
      rw [hK0] at hq1 hc0 ⊢
      have HK2 : Hid (k + 2 * (j + 1) = K2) := hK2
      have hK0b : (K0 : Int) ≤ 4398046511104 := by omega
      clear hK0 hK1 hK2 hfx
      have hne1 : ((K0 : Int) != (K0 : Int)) = false := by simp
      have hne2 : ((K1 : Int) != (K1 : Int)) = false := by simp
      go_wp2_with fail
      go_roundw
      case rel => exact ⟨j + 1, by omega, by go_num, by rw [HK2.out], HB⟩
      case measure => simp [intOf]; omega
    · have hjn : j = n := by omega
      subst hjn
      go_wp2_with fail
      go_ret
      exact ⟨rfl, HB.out⟩

end Go.Proofs.Ytghakpcagacdaam
