/- The table of states by events, and what a step answers: no statement of the program; no condition. -/
import Derived.Test.YtcfinhepcpjcnaoDoorOwn
namespace Go.Proofs.YtcfinhepcpjcnaoDoor
open Go.RowKit
set_option linter.unusedVariables false

/-- The table of the program, a state a row. -/
def stmTab : List (List Int) :=
  [[0, 1, 2, -1, -1, -1, 1, 3, -1, -1, -1], [0, -1, 2, 1, 2, 4, 1, 3, 1, 3, 4], [0, -2, -2, -2, -2, 4, 2, 4, 2, 4, 4], [0, -1, 4, 3, 4, 4, -2, -2, -2, -2, 4], [0, -2, -2, -2, -2, 4, -2, -2, -2, -2, -2]]

/-- The cell of a state and an event. -/
def stmCell (j i : Nat) : Int := (stmTab.getD j []).getD i 0

/-- What a step answers: the state behind it, and its code. -/
def stepN (s ev : Int) : Int × Int :=
  if 0 ≤ s ∧ s < 5 ∧ 1 ≤ ev ∧ ev < 11 then
    if stmCell s.toNat ev.toNat < 0 then (s, -stmCell s.toNat ev.toNat) else (stmCell s.toNat ev.toNat, 0)
  else (s, 1)

/-- The variable of the program holds the table. -/
def StmT (w : World) : Prop := ∀ j i : Nat, j < 5 → i < 11 → w.cell? ⟨0, j * 11 + i, none⟩ = some (.int .i64 (stmCell j i))

theorem StmT.lt {w : World} (h : StmT w) : 0 < w.heap.size := lt_of_cell (h 0 0 (by omega) (by omega))

theorem StmT.below {w w' : World} (h : StmT w) (hb : Below w.heap.size w w') : StmT w' := fun j i hj hi => (hb.cell (p := ⟨0, j * 11 + i, none⟩) h.lt).trans (h j i hj hi)

theorem stmCell_bounds : ∀ j, j < 5 → ∀ i, i < 11 → -2 ≤ stmCell j i ∧ stmCell j i ≤ 4 := by decide +kernel

theorem stepN_in {s ev : Int} (h : 0 ≤ s ∧ s < 5 ∧ 1 ≤ ev ∧ ev < 11) : stepN s ev = if stmCell s.toNat ev.toNat < 0 then (s, -stmCell s.toNat ev.toNat) else (stmCell s.toNat ev.toNat, 0) := if_pos h

theorem stepN_out {s ev : Int} (h : ¬ (0 ≤ s ∧ s < 5 ∧ 1 ≤ ev ∧ ev < 11)) : stepN s ev = (s, 1) := if_neg h

end Go.Proofs.YtcfinhepcpjcnaoDoor
