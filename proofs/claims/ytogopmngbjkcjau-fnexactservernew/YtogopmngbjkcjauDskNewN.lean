/- How many sectors a new disk has. No program in it. -/
import Derived.Test.YtogopmngbjkcjauDskAns
import Derived.Test.YtogopmngbjkcjauDskNum
namespace Go.Proofs.Ytogopmngbjkcjau
open Go.RowKit
set_option linter.unusedVariables false

/-- How many sectors a new disk has. -/
def newN (n : Int) : Nat := if n ≤ 200 then n.toNat else 0

end Go.Proofs.Ytogopmngbjkcjau
