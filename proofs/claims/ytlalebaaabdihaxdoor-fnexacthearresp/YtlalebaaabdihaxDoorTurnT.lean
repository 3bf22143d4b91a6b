/- The program's table of steps, as it lies in memory. -/
import Derived.Test.YtlalebaaabdihaxDoorClN
import Derived.Test.YtlalebaaabdihaxDoorBase
namespace Go.Proofs.YtlalebaaabdihaxDoor
open Go.RowKit
set_option linter.unusedVariables false

def turnA (k : Nat) : Int := (turnL.getD k (0, 0, 0)).1
def turnB (k : Nat) : Int := (turnL.getD k (0, 0, 0)).2.1
def turnC (k : Nat) : Int := (turnL.getD k (0, 0, 0)).2.2

/-- The variable holds the table: thirteen rows of three numbers. -/
def TurnT (w : World) : Prop := 0 < w.heap.size ∧ ∀ k : Nat, k ≤ 12 → w.cell? ⟨0, k * 3, none⟩ = some (.int .i64 (turnA k)) ∧ w.cell? ⟨0, k * 3 + 1, none⟩ = some (.int .i64 (turnB k)) ∧ w.cell? ⟨0, k * 3 + 2, none⟩ = some (.int .i64 (turnC k))

theorem TurnT.below {w W : World} (h : TurnT w) (hb : Below w.heap.size w W) : TurnT W :=
  ⟨Nat.lt_of_lt_of_le h.1 hb.size, fun k hk => ⟨(hb.cell (p := ⟨0, k * 3, none⟩) h.1).trans (h.2 k hk).1, (hb.cell (p := ⟨0, k * 3 + 1, none⟩) h.1).trans (h.2 k hk).2.1, (hb.cell (p := ⟨0, k * 3 + 2, none⟩) h.1).trans (h.2 k hk).2.2⟩⟩

theorem turnC_at {st q : Int} {k : Nat} (hk : k ≤ 12) (hn : ∀ j, j < k → ¬ (turnA j = st ∧ turnB j = q)) (h : turnA k = st ∧ turnB k = q) : nextC st q = turnC k := by
  have hl : turnL.length = 13 := rfl
  have g : ∀ j (hj : j < turnL.length), turnL[j] = turnL.getD j (0, 0, 0) := fun j hj => by rw [List.getD_eq_getElem?_getD, List.getElem?_eq_getElem hj, Option.getD_some]
  have := lookT_at st q turnL k (by omega) (fun j hj hjk => by rw [g j hj]; exact hn j hjk) (by rw [g k (by omega)]; exact h)
  rw [nextC, this, g k (by omega)]
  rfl

theorem turnC_none {st q : Int} (hn : ∀ j, j < 13 → ¬ (turnA j = st ∧ turnB j = q)) : nextC st q = 6 := by
  have g : ∀ j (hj : j < turnL.length), turnL[j] = turnL.getD j (0, 0, 0) := fun j hj => by rw [List.getD_eq_getElem?_getD, List.getElem?_eq_getElem hj, Option.getD_some]
  exact lookT_none st q turnL fun j hj => by rw [g j hj]; exact hn j hj

end Go.Proofs.YtlalebaaabdihaxDoor
