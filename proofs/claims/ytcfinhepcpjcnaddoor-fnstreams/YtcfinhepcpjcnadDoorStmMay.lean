/- What the program's MayPut and MayGet answer: whether the step's code is good; nothing is written. -/
import Derived.Test.YtcfinhepcpjcnadDoorStmStep
namespace Go.Proofs.YtcfinhepcpjcnadDoor
open Go.RowKit
set_option linter.unusedVariables false

set_option maxHeartbeats 400000 in
theorem implGood_any (s ev : Int) (w : World) (hT : StmT w) :
    Calls Tryd.prog 53 #[.int .i64 s, .int .i64 ev] w fun e w' => e = .returned (.bool ((stepN s ev).2 == 0)) ∧ w' = w := by
  have HC : Hid (Calls Tryd.prog 17 #[.int .i64 s, .int .i64 ev] w fun e w' => e = .returned (.tuple #[.int .i64 (stepN s ev).1, .int .i64 (stepN s ev).2]) ∧ w' = w) := implStep_any s ev w hT
  clear hT
  generalize stepN s ev = p at *
  obtain ⟨n, c⟩ := p
  dsimp only at *
  go_enter Tryd.func53, Tryd.ntmps53
  go_wp2_with fail
  refine HC.out.mono ?_
  rintro e w' ⟨rfl, rfl⟩
  go_wp2_with fail
  go_ret
  exact ⟨rfl, rfl⟩

set_option maxHeartbeats 400000 in
theorem implMayPut_any (s : Int) (w : World) (hT : StmT w) :
    Calls Tryd.prog 19 #[.int .i64 s] w fun e w' => e = .returned (.bool ((stepN s 8).2 == 0)) ∧ w' = w := by
  have HC : Hid (Calls Tryd.prog 53 #[.int .i64 s, .int .i64 8] w fun e w' => e = .returned (.bool ((stepN s 8).2 == 0)) ∧ w' = w) := implGood_any s 8 w hT
  clear hT
  generalize ((stepN s 8).2 == 0) = p at *
  go_enter Tryd.func19, Tryd.ntmps19
  go_wp2_with fail
  refine HC.out.mono ?_
  rintro e w' ⟨rfl, rfl⟩
  go_wp2_with fail
  go_ret
  exact ⟨rfl, rfl⟩

set_option maxHeartbeats 400000 in
theorem implMayGet_any (s : Int) (w : World) (hT : StmT w) :
    Calls Tryd.prog 20 #[.int .i64 s] w fun e w' => e = .returned (.bool ((stepN s 3).2 == 0)) ∧ w' = w := by
  have HC : Hid (Calls Tryd.prog 53 #[.int .i64 s, .int .i64 3] w fun e w' => e = .returned (.bool ((stepN s 3).2 == 0)) ∧ w' = w) := implGood_any s 3 w hT
  clear hT
  generalize ((stepN s 3).2 == 0) = p at *
  go_enter Tryd.func20, Tryd.ntmps20
  go_wp2_with fail
  refine HC.out.mono ?_
  rintro e w' ⟨rfl, rfl⟩
  go_wp2_with fail
  go_ret
  exact ⟨rfl, rfl⟩

end Go.Proofs.YtcfinhepcpjcnadDoor
