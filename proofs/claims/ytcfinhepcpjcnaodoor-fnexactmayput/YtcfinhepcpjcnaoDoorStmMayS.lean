/- What the specification's MayPut and MayGet answer: whether the step's code is good; nothing is written. -/
import Derived.Test.YtcfinhepcpjcnaoDoorStmSpec
namespace Go.Proofs.YtcfinhepcpjcnaoDoor
open Go.RowKit
set_option linter.unusedVariables false

set_option maxHeartbeats 400000 in
theorem specMayPut_any (s : Int) (w : World) :
    Calls Tryd.prog 28 #[.int .i64 s] w fun e w' => e = .returned (.bool ((stepN s 8).2 == 0)) ∧ w' = w := by
  have HC : Hid (Calls Tryd.prog 22 #[.int .i64 s, .int .i64 8] w fun e w' => e = .returned (.tuple #[.int .i64 (stepN s 8).1, .int .i64 (stepN s 8).2]) ∧ w' = w) := specStep_any s 8 w
  generalize stepN s 8 = p at *
  obtain ⟨n, c⟩ := p
  dsimp only at *
  go_enter Tryd.func28, Tryd.ntmps28
  go_wp2_with fail
  refine HC.out.mono ?_
  rintro e w' ⟨rfl, rfl⟩
  go_wp2_with fail
  go_ret
  exact ⟨rfl, rfl⟩

set_option maxHeartbeats 400000 in
theorem specMayGet_any (s : Int) (w : World) :
    Calls Tryd.prog 30 #[.int .i64 s] w fun e w' => e = .returned (.bool ((stepN s 3).2 == 0)) ∧ w' = w := by
  have HC : Hid (Calls Tryd.prog 22 #[.int .i64 s, .int .i64 3] w fun e w' => e = .returned (.tuple #[.int .i64 (stepN s 3).1, .int .i64 (stepN s 3).2]) ∧ w' = w) := specStep_any s 3 w
  generalize stepN s 3 = p at *
  obtain ⟨n, c⟩ := p
  dsimp only at *
  go_enter Tryd.func30, Tryd.ntmps30
  go_wp2_with fail
  refine HC.out.mono ?_
  rintro e w' ⟨rfl, rfl⟩
  go_wp2_with fail
  go_ret
  exact ⟨rfl, rfl⟩

end Go.Proofs.YtcfinhepcpjcnaoDoor
