/- What is granted to a flow: no statement of the program; no condition. -/
import Derived.Test.YtkicfiacnpifkadFlowSpendN
import Derived.OpenShut
namespace Go.Proofs.Ytkicfiacnpifkad
open Go.RowKit
set_option linter.unusedVariables false

/-- What Grant answers. -/
noncomputable def grantR (c i : Int) (l : List Lane) (id n : Int) : (Int × Int × List Lane) × Bool :=
  if ¬ (1 ≤ n ∧ n ≤ 2147483647) ∨ (id ≠ 0 ∧ atL id l < 0) then ((c, i, l), false) else
    if id = 0 then endsF c i l (IntKind.i64.wrap (c + n)) i l true else endsF c i l c i (leftTo l (atL id l).toNat (IntKind.i64.wrap ((laneAt l (atL id l).toNat).2 + n))) true

theorem i64b_w (x : Int) : i64b (IntKind.i64.wrap x) := bounds_i64 (wf_wrap .i64 x)

end Go.Proofs.Ytkicfiacnpifkad
