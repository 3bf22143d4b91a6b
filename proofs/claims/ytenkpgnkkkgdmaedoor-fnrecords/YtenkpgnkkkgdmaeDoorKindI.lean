/- Whether a Kind is one of a record's: what the program's own helper answers. -/
import Derived.Test.YtenkpgnkkkgdmaeDoorOwn
namespace Go.Proofs.YtenkpgnkkkgdmaeDoor
open Go.RowKit
set_option linter.unusedVariables false

theorem implKind_any (k : Int) (w : World) :
    Calls Tryd.prog 58 #[.int .i64 k] w fun e w' => e = .returned (.bool (decide (1 ≤ k ∧ k ≤ 4))) ∧ w' = w := by
  by_cases h1 : 1 ≤ k
  · by_cases h4 : k ≤ 4
    · have HF : Hid (decide (1 ≤ k ∧ k ≤ 4) = true) := decide_eq_true ⟨h1, h4⟩
      have d1 : decide (1 ≤ k) = true := decide_eq_true h1
      have d4 : decide (k ≤ 4) = true := decide_eq_true h4
      rw [HF.out]
      go_enter Tryd.func58, Tryd.ntmps58
      go_wp2_with fail
      go_ret
      exact ⟨rfl, rfl⟩
    · have HF : Hid (decide (1 ≤ k ∧ k ≤ 4) = false) := decide_eq_false (fun h => h4 h.2)
      have d1 : decide (1 ≤ k) = true := decide_eq_true h1
      have d4 : decide (k ≤ 4) = false := decide_eq_false h4
      rw [HF.out]
      go_enter Tryd.func58, Tryd.ntmps58
      go_wp2_with fail
      go_ret
      exact ⟨rfl, rfl⟩
  · have HF : Hid (decide (1 ≤ k ∧ k ≤ 4) = false) := decide_eq_false (fun h => h1 h.1)
    have d1 : decide (1 ≤ k) = false := decide_eq_false h1
    rw [HF.out]
    go_enter Tryd.func58, Tryd.ntmps58
    go_wp2_with fail
    go_ret
    exact ⟨rfl, rfl⟩

end Go.Proofs.YtenkpgnkkkgdmaeDoor
