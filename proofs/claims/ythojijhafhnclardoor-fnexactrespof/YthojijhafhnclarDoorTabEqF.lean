/- One field: Fields against themselves. -/
import Derived.Test.YthojijhafhnclarDoorTiny
import Derived.Test.YthojijhafhnclarDoorTabFit
namespace Go.Proofs.YthojijhafhnclarDoor
open Go.RowKit
set_option linter.unusedVariables false

set_option maxHeartbeats 400000 in
theorem eqField_same (x y : ByteArray) (w : World) : Calls Tryd.prog 20 #[.agg #[.string x, .string y], .agg #[.string x, .string y]] w fun e w' => e = .returned (.bool true) ∧ Below w.heap.size w w' := by
  go_enter Tryd.func20, Tryd.ntmps20
  go_wp2
  go_ret
  exact ⟨rfl, ((Below.refl _ _).alloc (Nat.le_refl _) _).alloc (by simp [World.size_alloc]) _⟩

end Go.Proofs.YthojijhafhnclarDoor
