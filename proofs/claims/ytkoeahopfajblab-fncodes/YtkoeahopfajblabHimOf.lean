/- What the program's CodeLen and CodeOf answer. -/
import Derived.Test.YtkoeahopfajblabHimCodes
import Derived.Test.YtkoeahopfajblabHufNums
namespace Go.Proofs.Ytkoeahopfajblab
open Go.RowKit
set_option linter.unusedVariables false

set_option maxHeartbeats 400000 in
theorem symOk_yes (x : Int) (w : World) (h1 : 0 ≤ x) (h2 : x ≤ 256) : Calls Try.prog 15 #[.int .i64 x] w fun e w' => e = .returned (.bool true) ∧ w' = w := by
  go_enter Try.func15, Try.ntmps15
  go_wp2
  go_ret
  exact ⟨ret_bool (by simp; omega), rfl⟩

set_option maxHeartbeats 400000 in
theorem symOk_no (x : Int) (w : World) (h : x < 0 ∨ 256 < x) : Calls Try.prog 15 #[.int .i64 x] w fun e w' => e = .returned (.bool false) ∧ w' = w := by
  by_cases h1 : x < 0
  · clear h
    go_enter Try.func15, Try.ntmps15
    go_wp2
    go_ret
    exact ⟨rfl, rfl⟩
  · have h2 : 256 < x := by omega
    clear h
    go_enter Try.func15, Try.ntmps15
    go_wp2
    go_ret
    exact ⟨ret_bool (by simp; omega), rfl⟩

set_option maxHeartbeats 400000 in
theorem implLen_any (x : Int) (w : World) : Calls Try.prog 7 #[.int .i64 x] w fun e w' => e = .returned (.int .i64 (lenAns x)) ∧ Below w.heap.size w w' := by
  by_cases h : 0 ≤ x ∧ x ≤ 256
  · have e : lenAns x = lensI.getD x.toNat 0 := by rw [lenAns, if_pos h]
    rw [e]
    obtain ⟨h1, h2⟩ := h
    obtain ⟨X, rfl⟩ := Int.eq_ofNat_of_zero_le h1
    rw [Int.toNat_natCast]
    clear e
    have hidx : ∀ w, (Instr.index 33 (.agg (tabV lensI)) (.int .i64 (X : Int))).run Try.prog w = .ok (.int .i64 (lensI.getD X 0)) w := index_arr _ X (by omega) _ (tabV_at lensI X (by rw [lens_len]; omega))
    generalize lensI.getD X 0 = v at *
    go_enter Try.func7, Try.ntmps7
    go_wp2_with fail
    refine (symOk_yes _ _ h1 h2).mono ?_
    rintro e w1 ⟨rfl, rfl⟩
    go_wp2_with fail
    refine (implLens_any _).mono ?_
    rintro e w2 ⟨rfl, hw2⟩
    have hb : Below w1.heap.size w1 w2 := by
      rw [hw2]
      exact (Below.refl _ _).alloc (Nat.le_refl _) _
    clear hw2
    go_wp2_with fail
    go_ret
    exact ⟨rfl, hb⟩
  · have e : lenAns x = 0 := by rw [lenAns, if_neg h]
    rw [e]
    have HF : Hid (x < 0 ∨ 256 < x) := by show _ ∨ _; omega
    clear h e
    go_enter Try.func7, Try.ntmps7
    go_wp2_with fail
    refine (symOk_no _ _ HF.out).mono ?_
    rintro e w1 ⟨rfl, rfl⟩
    go_wp2_with fail
    go_ret
    exact ⟨rfl, Below.refl _ _⟩

set_option maxHeartbeats 400000 in
theorem implOf_any (x : Int) (w : World) : Calls Try.prog 8 #[.int .i64 x] w fun e w' => e = .returned (.int .i64 (codeAns x)) ∧ Below w.heap.size w w' := by
  by_cases h : 0 ≤ x ∧ x ≤ 256
  · have e : codeAns x = codesI.getD x.toNat 0 := by rw [codeAns, if_pos h]
    rw [e]
    obtain ⟨h1, h2⟩ := h
    obtain ⟨X, rfl⟩ := Int.eq_ofNat_of_zero_le h1
    rw [Int.toNat_natCast]
    clear e
    have hidx : ∀ w, (Instr.index 33 (.agg (tabV codesI)) (.int .i64 (X : Int))).run Try.prog w = .ok (.int .i64 (codesI.getD X 0)) w := index_arr _ X (by omega) _ (tabV_at codesI X (by rw [codes_len]; omega))
    generalize codesI.getD X 0 = v at *
    go_enter Try.func8, Try.ntmps8
    go_wp2_with fail
    refine (symOk_yes _ _ h1 h2).mono ?_
    rintro e w1 ⟨rfl, rfl⟩
    go_wp2_with fail
    refine (implLens_any _).mono ?_
    rintro e w2 ⟨rfl, hw2⟩
    have hb : Below w1.heap.size w1 w2 := by
      rw [hw2]
      exact (Below.refl _ _).alloc (Nat.le_refl _) _
    clear hw2
    go_wp2_with fail
    refine (implCodes_any _).mono ?_
    rintro e w3 ⟨rfl, hb3⟩
    have hb13 : Below w1.heap.size w1 w3 := hb.trans (hb3.mono hb.size)
    clear hb hb3
    go_wp2_with fail
    go_ret
    exact ⟨rfl, hb13⟩
  · have e : codeAns x = 0 := by rw [codeAns, if_neg h]
    rw [e]
    have HF : Hid (x < 0 ∨ 256 < x) := by show _ ∨ _; omega
    clear h e
    go_enter Try.func8, Try.ntmps8
    go_wp2_with fail
    refine (symOk_no _ _ HF.out).mono ?_
    rintro e w1 ⟨rfl, rfl⟩
    go_wp2_with fail
    go_ret
    exact ⟨rfl, Below.refl _ _⟩

end Go.Proofs.Ytkoeahopfajblab
