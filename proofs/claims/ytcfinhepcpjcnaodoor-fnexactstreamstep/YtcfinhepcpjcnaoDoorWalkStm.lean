/- The walk of the law that a step of the program answers as the specification's, for every state and event. -/
import Derived.Test.YtcfinhepcpjcnaoDoorStmStep
import Derived.Test.YtcfinhepcpjcnaoDoorStmSpec
namespace Go.Proofs.YtcfinhepcpjcnaoDoor
open Go.RowKit
set_option linter.unusedVariables false

set_option maxHeartbeats 400000 in
theorem stmStepWalk (s ev : Int) (w : World) (hT : StmT w) :
    Calls Tryd.prog 4 #[.int .i64 s, .int .i64 ev] w fun e w' => e = .returned (.bool true) ∧ Below w.heap.size w w' := by
  have HI : Hid (Calls Tryd.prog 23 #[.int .i64 s, .int .i64 ev] w fun e w' => e = .returned (.tuple #[.int .i64 (stepN s ev).1, .int .i64 (stepN s ev).2]) ∧ w' = w) := implStep_any s ev w hT
  have HP : Hid (Calls Tryd.prog 22 #[.int .i64 s, .int .i64 ev] w fun e w' => e = .returned (.tuple #[.int .i64 (stepN s ev).1, .int .i64 (stepN s ev).2]) ∧ w' = w) := specStep_any s ev w
  clear hT
  generalize stepN s ev = p at *
  obtain ⟨n, c⟩ := p
  dsimp only at *
  go_enter Tryd.func4, Tryd.ntmps4
  go_wp2_with fail
  refine HP.out.mono ?_
  rintro e w' ⟨rfl, hw'⟩
  subst hw'
  go_wp2_with fail
  refine HI.out.mono ?_
  rintro e w'' ⟨rfl, hw'⟩
  subst hw'
  go_wp2
  go_ret
  exact ⟨rfl, Below.refl _ _⟩

end Go.Proofs.YtcfinhepcpjcnaoDoor
