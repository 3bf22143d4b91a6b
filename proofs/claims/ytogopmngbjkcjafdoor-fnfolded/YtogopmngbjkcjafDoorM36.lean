/- From what the row lists of the program's error to the cell that holds it. -/
import Derived.Test.YtogopmngbjkcjafDoorM30
import Derived.FnData
namespace Go.Proofs.YtogopmngbjkcjafDoor
open Go.RowKit
set_option linter.unusedVariables false

theorem errG : Tryd.prog.globalNamed "loop.example/g00199/impl.errNoFit" = some 0 := by kernel_rfl

theorem errN_of_var {W : World} (h : ∃ t p, W.var? Tryd.prog "loop.example/g00199/impl.errNoFit" = some #[.iface t p]) : ErrN W := by
  obtain ⟨t, p, h⟩ := h
  have c := World.var?_cell errG h 0
  have c' : W.cell? ⟨0, 0, none⟩ = some (.iface t p) := by rw [c]; rfl
  refine ⟨?_, t, p, c'⟩
  rw [World.var?, errG] at h
  cases hg : W.heap[(0 : Nat)]? with
  | none => simp [hg] at h
  | some o => exact (Array.getElem?_eq_some_iff.1 hg).1

end Go.Proofs.YtogopmngbjkcjafDoor
