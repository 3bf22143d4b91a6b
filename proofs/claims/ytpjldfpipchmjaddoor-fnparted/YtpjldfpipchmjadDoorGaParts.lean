/- Two lists of bytes in blocks of their own. No program in it. -/
import Derived.Test.YtpjldfpipchmjadDoorOwn
namespace Go.Proofs.YtpjldfpipchmjadDoor
open Go.RowKit

/-- Two lists of bytes do not lie in one block. -/
def Parts2 (a a2 : Option Addr) : Prop := ∀ q, a.map (·.block) = some q → a2.map (·.block) ≠ some q

end Go.Proofs.YtpjldfpipchmjadDoor
