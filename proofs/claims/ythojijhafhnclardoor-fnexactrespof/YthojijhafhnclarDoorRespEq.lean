/- An answer held against itself. -/
import Derived.Test.YthojijhafhnclarDoorBox2R
import Derived.WalkKit
namespace Go.Proofs.YthojijhafhnclarDoor
open Go.RowKit
set_option linter.unusedVariables false

set_option maxRecDepth 10000 in
theorem eqResp_same (st off : Int) (w : World) :
    Calls Tryd.prog 15 #[.agg #[.int .i64 st, .int .i64 off], .agg #[.int .i64 st, .int .i64 off]] w fun e w' => e = .returned (.bool true) ∧ Below w.heap.size w w' := by
  have h1 : (st != st) = false := by simp
  have h3 : (off != off) = false := by simp
  go_enter Tryd.func15, Tryd.ntmps15
  go_wp2
  go_ret
  exact ⟨rfl, ((Below.refl _ _).alloc (Nat.le_refl _) _).alloc (by simp) _⟩

end Go.Proofs.YthojijhafhnclarDoor
