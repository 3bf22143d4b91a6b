/- What the test of a range answers. -/
import Derived.Test.YtlalebaaabdihaxOwn
namespace Go.Proofs.Ytlalebaaabdihax
open Go.RowKit
set_option linter.unusedVariables false

set_option maxHeartbeats 400000 in
theorem l1In_yes (x lo hi : Int) (w : World) (h1 : lo ≤ x) (h2 : x ≤ hi) : Calls Try.prog 43 #[.int .i64 x, .int .i64 lo, .int .i64 hi] w fun e w' => e = .returned (.bool true) ∧ w' = w := by
  go_enter Try.func43, Try.ntmps43
  go_wp2
  go_ret
  exact ⟨rfl, rfl⟩

set_option maxHeartbeats 400000 in
theorem l1In_no (x lo hi : Int) (w : World) (h : x < lo ∨ hi < x) : Calls Try.prog 43 #[.int .i64 x, .int .i64 lo, .int .i64 hi] w fun e w' => e = .returned (.bool false) ∧ w' = w := by
  by_cases h1 : x < lo
  · clear h
    go_enter Try.func43, Try.ntmps43
    go_wp2
    go_ret
    exact ⟨rfl, rfl⟩
  · have h2 : hi < x := by omega
    clear h
    go_enter Try.func43, Try.ntmps43
    go_wp2
    go_ret
    exact ⟨ret_bool (by simp; omega), rfl⟩

theorem l1In_any (x lo hi : Int) (w : World) : Calls Try.prog 43 #[.int .i64 x, .int .i64 lo, .int .i64 hi] w fun e w' => e = .returned (.bool (decide (lo ≤ x ∧ x ≤ hi))) ∧ w' = w := by
  by_cases h : lo ≤ x ∧ x ≤ hi
  · rw [decide_eq_true h]
    exact l1In_yes x lo hi w h.1 h.2
  · rw [decide_eq_false h]
    exact l1In_no x lo hi w (by omega)

end Go.Proofs.Ytlalebaaabdihax
