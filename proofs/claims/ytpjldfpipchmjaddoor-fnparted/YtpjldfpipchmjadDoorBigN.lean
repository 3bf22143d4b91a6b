/- What is answered for a number of bytes that may not be there. No program in it. -/
import Derived.Test.YtpjldfpipchmjadDoorNums
namespace Go.Proofs.YtpjldfpipchmjadDoor
open Go.RowKit

/-- What GetBig answers. -/
def gbr (zs : List Int) (at_ k : Int) : Int × Bool :=
  if 1 ≤ k ∧ k ≤ 7 ∧ 0 ≤ at_ ∧ at_ + k ≤ (zs.length : Int) then (gb ((zs.drop at_.toNat).take k.toNat), true) else (0, false)

end Go.Proofs.YtpjldfpipchmjadDoor
