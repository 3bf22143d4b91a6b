/- A lane put into a flow, and taken out of it: no statement of the program; no condition. -/
import Derived.Test.YtkicfiacnpifkadFlowRoomN
import Derived.Test.YtkicfiacnpifkadFlowEndsS
namespace Go.Proofs.Ytkicfiacnpifkad
open Go.RowKit
set_option linter.unusedVariables false

/-- What CloseLane answers. -/
noncomputable def closeR (c i : Int) (l : List Lane) (id : Int) : (Int × Int × List Lane) × Bool :=
  if atL id l < 0 then ((c, i, l), false) else endsF c i l c i (l.take (atL id l).toNat ++ l.drop ((atL id l).toNat + 1)) true

/-- How many lanes at the begin have lesser numbers. -/
def lessL (id : Int) : List Lane → Nat
  | [] => 0
  | x :: r => if x.1 < id then lessL id r + 1 else 0

theorem lessL_le (id : Int) : ∀ l : List Lane, lessL id l ≤ l.length
  | [] => Nat.le_refl _
  | x :: r => by
    have := lessL_le id r
    unfold lessL
    split
    · simp; omega
    · simp

theorem lessL_at {id : Int} : ∀ {l : List Lane} {k : Nat}, k ≤ l.length → (∀ j, j < k → (laneAt l j).1 < id) → (k < l.length → ¬ (laneAt l k).1 < id) → lessL id l = k
  | [], k, hk, _, _ => by simp at hk; subst hk; rfl
  | x :: r, 0, _, _, h => by
    have h0 : ¬ x.1 < id := by simpa [laneAt] using h (by simp)
    rw [lessL, if_neg h0]
  | x :: r, k + 1, hk, hj, h => by
    have h0 : x.1 < id := by simpa [laneAt] using hj 0 (by omega)
    rw [lessL, if_pos h0, lessL_at (l := r) (k := k) (by simpa using hk) (fun j hjk => by simpa [laneAt] using hj (j + 1) (by omega)) (fun hk' => by simpa [laneAt] using h (by simpa using hk'))]

/-- What OpenLane answers. -/
noncomputable def openR (c i : Int) (l : List Lane) (id : Int) : (Int × Int × List Lane) × Bool :=
  endsF c i l c i (l.take (lessL id l) ++ [(id, i)] ++ l.drop (lessL id l)) (decide (atL id l < 0))

end Go.Proofs.Ytkicfiacnpifkad
