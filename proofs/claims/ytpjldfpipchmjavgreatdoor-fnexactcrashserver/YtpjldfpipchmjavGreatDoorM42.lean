/- From what the row lists of the program's error to the cell that holds it. -/
import Derived.Test.YtpjldfpipchmjavGreatDoorM28
import Derived.FnData
namespace Go.Proofs.YtpjldfpipchmjavGreatDoor
open Go.RowKit
set_option linter.unusedVariables false

theorem errG : Tryz.prog.globalNamed "loop.example/g00199/impl.errNoFit" = some 3 := by kernel_rfl

theorem errN_of_var {W : World} (h : ∃ t p, W.var? Tryz.prog "loop.example/g00199/impl.errNoFit" = some #[.iface t p]) : ErrN W := by
  obtain ⟨t, p, h⟩ := h
  have c := World.var?_cell errG h 0
  have c' : W.cell? ⟨3, 0, none⟩ = some (.iface t p) := by rw [c]; rfl
  refine ⟨?_, t, p, c'⟩
  rw [World.var?, errG] at h
  cases hg : W.heap[(3 : Nat)]? with
  | none => simp [hg] at h
  | some o => exact (Array.getElem?_eq_some_iff.1 hg).1

end Go.Proofs.YtpjldfpipchmjavGreatDoor
