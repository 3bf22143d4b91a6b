/- Variables of two cells, and what stays behind a call that writes into one row. -/
import Derived.Test.YtnenphedodfnnakTabTwo
import Derived.Test.YtnenphedodfnnakTabRes
import Derived.Test.YtnenphedodfnnakTabMarks
namespace Go.Proofs.Ytnenphedodfnnak
open Go.RowKit
set_option linter.unusedVariables false

end Go.Proofs.Ytnenphedodfnnak
