/- The walks of the laws that MayPut and MayGet of the program answer as the specification's, for every state. -/
import Derived.Test.YtcfinhepcpjcnaoDoorStmMay
import Derived.Test.YtcfinhepcpjcnaoDoorStmMayS
namespace Go.Proofs.YtcfinhepcpjcnaoDoor
open Go.RowKit
set_option linter.unusedVariables false

set_option maxHeartbeats 400000 in
theorem mayPutWalk (s : Int) (w : World) (hT : StmT w) :
    Calls Tryd.prog 6 #[.int .i64 s] w fun e w' => e = .returned (.bool true) ∧ Below w.heap.size w w' := by
  have HI : Hid (Calls Tryd.prog 29 #[.int .i64 s] w fun e w' => e = .returned (.bool ((stepN s 8).2 == 0)) ∧ w' = w) := implMayPut_any s w hT
  have HP : Hid (Calls Tryd.prog 28 #[.int .i64 s] w fun e w' => e = .returned (.bool ((stepN s 8).2 == 0)) ∧ w' = w) := specMayPut_any s w
  clear hT
  generalize ((stepN s 8).2 == 0) = p at *
  go_enter Tryd.func6, Tryd.ntmps6
  go_wp2_with fail
  refine HP.out.mono ?_
  rintro e w' ⟨rfl, hw'⟩
  subst hw'
  go_wp2_with fail
  refine HI.out.mono ?_
  rintro e w'' ⟨rfl, hw'⟩
  subst hw'
  cases p
  all_goals
    go_wp2
    go_ret
    exact ⟨rfl, Below.refl _ _⟩

set_option maxHeartbeats 400000 in
theorem mayGetWalk (s : Int) (w : World) (hT : StmT w) :
    Calls Tryd.prog 7 #[.int .i64 s] w fun e w' => e = .returned (.bool true) ∧ Below w.heap.size w w' := by
  have HI : Hid (Calls Tryd.prog 31 #[.int .i64 s] w fun e w' => e = .returned (.bool ((stepN s 3).2 == 0)) ∧ w' = w) := implMayGet_any s w hT
  have HP : Hid (Calls Tryd.prog 30 #[.int .i64 s] w fun e w' => e = .returned (.bool ((stepN s 3).2 == 0)) ∧ w' = w) := specMayGet_any s w
  clear hT
  generalize ((stepN s 3).2 == 0) = p at *
  go_enter Tryd.func7, Tryd.ntmps7
  go_wp2_with fail
  refine HP.out.mono ?_
  rintro e w' ⟨rfl, hw'⟩
  subst hw'
  go_wp2_with fail
  refine HI.out.mono ?_
  rintro e w'' ⟨rfl, hw'⟩
  subst hw'
  cases p
  all_goals
    go_wp2
    go_ret
    exact ⟨rfl, Below.refl _ _⟩

end Go.Proofs.YtcfinhepcpjcnaoDoor
