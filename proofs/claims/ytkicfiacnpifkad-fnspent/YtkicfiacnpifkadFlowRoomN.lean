/- How much may be sent on a lane: no statement of the program; no condition. -/
import Derived.Test.YtkicfiacnpifkadFlowNum
namespace Go.Proofs.Ytkicfiacnpifkad
open Go.RowKit
set_option linter.unusedVariables false

theorem atL_range (id : Int) : ∀ l : List Lane, -1 ≤ atL id l ∧ atL id l < l.length
  | [] => by simp [atL]
  | x :: r => by
    have := atL_range id r
    unfold atL
    split
    · simp
    · split
      · simp only [List.length_cons]; omega
      · simp only [List.length_cons]; omega

/-- The lesser of what may be sent in all and on the lane, no less than 0. -/
def roomN (c : Int) (l : List Lane) (id : Int) : Int :=
  if atL id l < 0 then 0 else
    if (laneAt l (atL id l).toNat).2 < c then (if (laneAt l (atL id l).toNat).2 < 0 then 0 else (laneAt l (atL id l).toNat).2) else (if c < 0 then 0 else c)

theorem roomN_none {c id : Int} {l : List Lane} (h : atL id l < 0) : roomN c l id = 0 := if_pos h

theorem roomN_some {c id p q : Int} {l : List Lane} {K : Nat} (h : atL id l = K) (hk : laneAt l K = (p, q)) : roomN c l id = if q < c then (if q < 0 then 0 else q) else (if c < 0 then 0 else c) := by
  unfold roomN
  rw [h, if_neg (by omega), Int.toNat_natCast, hk]

end Go.Proofs.Ytkicfiacnpifkad
