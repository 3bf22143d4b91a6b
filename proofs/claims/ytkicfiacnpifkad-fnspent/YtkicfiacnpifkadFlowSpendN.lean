/- What is spent of a flow: no statement of the program; no condition. -/
import Derived.Test.YtkicfiacnpifkadFlowRoomN
import Derived.Test.YtkicfiacnpifkadFlowEndsS
namespace Go.Proofs.Ytkicfiacnpifkad
open Go.RowKit
set_option linter.unusedVariables false

/-- What is left on the lane at a place is another number. -/
def leftTo (l : List Lane) (k : Nat) (y : Int) : List Lane := l.set k ((laneAt l k).1, y)

/-- What Spend answers. -/
noncomputable def spendR (c i : Int) (l : List Lane) (id n : Int) : (Int × Int × List Lane) × Bool :=
  if atL id l < 0 ∨ ¬ (0 ≤ n ∧ n ≤ roomN c l id) then ((c, i, l), false) else endsF c i l (c - n) i (leftTo l (atL id l).toNat ((laneAt l (atL id l).toNat).2 - n)) true

theorem roomN_le {c : Int} {l : List Lane} {id : Int} : 0 ≤ roomN c l id ∧ (0 < roomN c l id → roomN c l id ≤ c ∧ roomN c l id ≤ (laneAt l (atL id l).toNat).2) := by
  unfold roomN
  split
  · omega
  · split
    · split <;> omega
    · split <;> omega

end Go.Proofs.Ytkicfiacnpifkad
