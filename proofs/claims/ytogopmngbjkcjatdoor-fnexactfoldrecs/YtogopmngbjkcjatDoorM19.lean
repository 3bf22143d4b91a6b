/- An upload written into a row. No program in it but its table of types. -/
import Derived.Test.YtogopmngbjkcjatDoorM08
namespace Go.Proofs.YtogopmngbjkcjatDoor
open Go.RowKit
set_option linter.unusedVariables false

/-- An upload is written into a row of the call's own. -/
theorem ueCells_put (M D : List UE) (e x : UE) :
    ((((ueCells (M ++ e :: D)).set (M.length * 4) (.string x.u.id)).set (M.length * 4 + 1) (.int .i64 x.u.want)).set (M.length * 4 + 2) (.slice x.a x.n x.c)).set (M.length * 4 + 3) (.bool x.u.done) = ueCells (M ++ x :: D) := by
  have hl := ueCells_len M
  rw [ueCells_append, ueCells_append, ueCells_cons, ueCells_cons]
  rw [List.set_append_right _ _ (by omega), hl, Nat.sub_self, List.set_cons_zero]
  rw [List.set_append_right _ _ (by omega), hl, show M.length * 4 + 1 - M.length * 4 = 1 by omega]
  rw [List.set_append_right _ _ (by omega), hl, show M.length * 4 + 2 - M.length * 4 = 2 by omega]
  rw [List.set_append_right _ _ (by omega), hl, show M.length * 4 + 3 - M.length * 4 = 3 by omega]
  rfl

theorem OwnU.put {w : World} {base g n C : Nat} {M D : List UE} {e : UE} (h : OwnU w base (some ⟨g, 0, none⟩) n C (M ++ e :: D)) (x : UE) :
    OwnU ((((w.setCell ⟨g, M.length * 4, none⟩ (.string x.u.id)).setCell ⟨g, M.length * 4 + 1, none⟩ (.int .i64 x.u.want)).setCell ⟨g, M.length * 4 + 2, none⟩ (.slice x.a x.n x.c)).setCell ⟨g, M.length * 4 + 3, none⟩ (.bool x.u.done)) base (some ⟨g, 0, none⟩) n C (M ++ x :: D) ∧ w.grownBy ((((w.setCell ⟨g, M.length * 4, none⟩ (.string x.u.id)).setCell ⟨g, M.length * 4 + 1, none⟩ (.int .i64 x.u.want)).setCell ⟨g, M.length * 4 + 2, none⟩ (.slice x.a x.n x.c)).setCell ⟨g, M.length * 4 + 3, none⟩ (.bool x.u.done)) (some g) := by
  have h0 : w.ownsRow base 71 4 (.slice (some ⟨g, 0, none⟩) n C) n (ueCells (M ++ e :: D)) := h
  have h1 := h0.stored (M.length * 4) (.string x.u.id)
  have h2 := h1.1.stored (M.length * 4 + 1) (.int .i64 x.u.want)
  have h3 := h2.1.stored (M.length * 4 + 2) (.slice x.a x.n x.c)
  have h4 := h3.1.stored (M.length * 4 + 3) (.bool x.u.done)
  have h5 := h4.1
  rw [ueCells_put] at h5
  exact ⟨h5, World.grownBy.trans (World.grownBy.trans (World.grownBy.trans h1.2 h2.2) h3.2) h4.2⟩

end Go.Proofs.YtogopmngbjkcjatDoor
