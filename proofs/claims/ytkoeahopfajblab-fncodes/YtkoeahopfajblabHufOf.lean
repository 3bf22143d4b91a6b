/- The specification's CodeOf. -/
import Derived.Test.YtkoeahopfajblabHufCodes
import Derived.Test.YtkoeahopfajblabHufNums
namespace Go.Proofs.Ytkoeahopfajblab
open Go.RowKit
set_option linter.unusedVariables false

set_option maxHeartbeats 400000 in
theorem in_yes (x lo hi : Int) (w : World) (h1 : lo ≤ x) (h2 : x ≤ hi) : Calls Try.prog 18 #[.int .i64 x, .int .i64 lo, .int .i64 hi] w fun e w' => e = .returned (.bool true) ∧ w' = w := by
  go_enter Try.func18, Try.ntmps18
  go_wp2
  go_ret
  exact ⟨rfl, rfl⟩

set_option maxHeartbeats 400000 in
theorem in_no (x lo hi : Int) (w : World) (h : x < lo ∨ hi < x) : Calls Try.prog 18 #[.int .i64 x, .int .i64 lo, .int .i64 hi] w fun e w' => e = .returned (.bool false) ∧ w' = w := by
  by_cases h1 : x < lo
  · clear h
    go_enter Try.func18, Try.ntmps18
    go_wp2
    go_ret
    exact ⟨rfl, rfl⟩
  · have h2 : hi < x := by omega
    clear h
    go_enter Try.func18, Try.ntmps18
    go_wp2
    go_ret
    exact ⟨ret_bool (by simp; omega), rfl⟩

set_option maxHeartbeats 400000 in
theorem specOf_any (x : Int) (w : World) : Calls Try.prog 9 #[.int .i64 x] w fun e w' => e = .returned (.int .i64 (codeAns x)) ∧ Below w.heap.size w w' := by
  by_cases h : 0 ≤ x ∧ x ≤ 256
  · have e : codeAns x = codesI.getD x.toNat 0 := by rw [codeAns, if_pos h]
    rw [e]
    obtain ⟨h1, h2⟩ := h
    obtain ⟨X, rfl⟩ := Int.eq_ofNat_of_zero_le h1
    rw [Int.toNat_natCast]
    clear e
    go_enter Try.func9, Try.ntmps9
    go_wp2_with fail
    refine (in_yes _ _ _ _ h1 h2).mono ?_
    rintro e w1 ⟨rfl, rfl⟩
    go_wp2_with fail
    refine (specCodes_any _).mono ?_
    rintro e w2 ⟨g, rfl, hn, hg, hb⟩
    have hc : w2.cell? ⟨g, X, none⟩ = some (.int .i64 (codesI.getD X 0)) := hn.2 X (by rw [codes_len]; omega)
    clear hn
    obtain ⟨v, hv⟩ : ∃ v, codesI.getD X 0 = v := ⟨_, rfl⟩
    rw [hv] at hc
    have HV : Hid (codesI.getD X 0 = v) := hv
    clear hv
    go_wp2_with fail
    go_ret
    exact ⟨ret_int HV.out.symm, hb⟩
  · have e : codeAns x = 0 := by rw [codeAns, if_neg h]
    rw [e]
    have HF : Hid (x < 0 ∨ 256 < x) := by show _ ∨ _; omega
    clear h e
    go_enter Try.func9, Try.ntmps9
    go_wp2_with fail
    refine (in_no _ _ _ _ HF.out).mono ?_
    rintro e w1 ⟨rfl, rfl⟩
    go_wp2_with fail
    go_ret
    exact ⟨rfl, Below.refl _ _⟩

end Go.Proofs.Ytkoeahopfajblab
