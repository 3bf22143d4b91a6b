/- The program's own look at a block's stream. -/
import Derived.Test.YtpjldfpipchmjadDoorOwn
namespace Go.Proofs.YtpjldfpipchmjadDoor
open Go.RowKit
set_option linter.unusedVariables false

set_option maxHeartbeats 400000 in
theorem blockOk_yes (s : Int) (w : World) (h1 : 1 ≤ s) (h2 : s ≤ 2147483647) : Calls Tryd.prog 27 #[.int .i64 s] w fun e w' => e = .returned (.bool true) ∧ w' = w := by
  go_enter Tryd.func27, Tryd.ntmps27
  go_wp2
  go_ret
  exact ⟨rfl, rfl⟩

set_option maxHeartbeats 400000 in
theorem blockOk_no (s : Int) (w : World) (h : ¬ (1 ≤ s ∧ s ≤ 2147483647)) : Calls Tryd.prog 27 #[.int .i64 s] w fun e w' => e = .returned (.bool false) ∧ w' = w := by
  by_cases c1 : 1 ≤ s
  · have c2 : ¬ s ≤ 2147483647 := fun h2 => h ⟨c1, h2⟩
    clear h
    go_enter Tryd.func27, Tryd.ntmps27
    go_wp2
    go_ret
    exact ⟨ret_bool (by simp; try omega), rfl⟩
  · clear h
    go_enter Tryd.func27, Tryd.ntmps27
    go_wp2
    go_ret
    exact ⟨ret_bool (by simp; try omega), rfl⟩

end Go.Proofs.YtpjldfpipchmjadDoor
