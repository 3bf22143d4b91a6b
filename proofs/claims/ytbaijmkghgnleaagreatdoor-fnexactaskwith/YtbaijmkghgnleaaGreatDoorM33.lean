/- The specification's first fields: a row in memory of its own. -/
import Derived.Test.YtbaijmkghgnleaaGreatDoorM05
import Derived.Test.YtbaijmkghgnleaaGreatDoorM09
namespace Go.Proofs.YtbaijmkghgnleaaGreatDoor
open Go.RowKit
set_option linter.unusedVariables false

set_option maxRecDepth 100000 in
set_option maxHeartbeats 4000000 in
theorem specFirst_cells (w : World) : Calls Tryz.prog 80 #[] w fun e w' => e = .returned (.slice (some ⟨w.heap.size, 0, none⟩) 61 61) ∧ w' = w.alloc (.cells (fieldCells firstL).toArray 69) := by
  go_enter Tryz.func80, Tryz.ntmps80
  go_wp2
  go_ret
  refine ⟨rfl, ?_⟩
  kernel_rfl

theorem specFirst_any (w : World) : Calls Tryz.prog 80 #[] w fun e w' => e = .returned (.slice (some ⟨w.heap.size, 0, none⟩) 61 61) ∧ Flds w' (some ⟨w.heap.size, 0, none⟩) 61 firstL ∧ Below w.heap.size w w' := by
  refine (specFirst_cells w).mono ?_
  rintro e w' ⟨rfl, rfl⟩
  refine ⟨rfl, ?_, (Below.refl _ _).alloc (Nat.le_refl _) _⟩
  have := Flds.ofRow (t := 69) (fs := firstL) (heap_alloc_new w (.cells (fieldCells firstL).toArray 69)) firstL_size
  rw [firstL_len] at this
  exact this

end Go.Proofs.YtbaijmkghgnleaaGreatDoor
