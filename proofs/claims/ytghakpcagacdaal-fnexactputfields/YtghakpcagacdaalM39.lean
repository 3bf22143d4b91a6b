/- The specification's first fields: a row in memory of its own. -/
import Derived.Test.YtghakpcagacdaalM07
import Derived.Test.YtghakpcagacdaalM13
namespace Go.Proofs.Ytghakpcagacdaal
open Go.RowKit
set_option linter.unusedVariables false

set_option maxRecDepth 100000 in
set_option maxHeartbeats 4000000 in
theorem specFirst_cells (w : World) : Calls Try.prog 84 #[] w fun e w' => e = .returned (.slice (some ⟨w.heap.size, 0, none⟩) 61 61) ∧ w' = w.alloc (.cells (fieldCells firstL).toArray 44) := by
  go_enter Try.func84, Try.ntmps84
  go_wp2
  go_ret
  refine ⟨rfl, ?_⟩
  kernel_rfl

theorem specFirst_any (w : World) : Calls Try.prog 84 #[] w fun e w' => e = .returned (.slice (some ⟨w.heap.size, 0, none⟩) 61 61) ∧ Flds w' (some ⟨w.heap.size, 0, none⟩) 61 firstL ∧ Below w.heap.size w w' := by
  refine (specFirst_cells w).mono ?_
  rintro e w' ⟨rfl, rfl⟩
  refine ⟨rfl, ?_, (Below.refl _ _).alloc (Nat.le_refl _) _⟩
  have := Flds.ofRow (t := 44) (fs := firstL) (heap_alloc_new w (.cells (fieldCells firstL).toArray 44)) firstL_size
  rw [firstL_len] at this
  exact this

end Go.Proofs.Ytghakpcagacdaal
