/- A table put into a variable of its own, made before or behind the call: for the walk of AddField. -/
import Derived.Test.YtnenphedodfnnakTabPut
import Derived.Test.YtnenphedodfnnakTabBox
namespace Go.Proofs.Ytnenphedodfnnak
open Go.RowKit
set_option linter.unusedVariables false

end Go.Proofs.Ytnenphedodfnnak
