/- What a put does: the model; no program in it. -/
import Derived.Test.YtnbmlkkjgecigarDskNum
namespace Go.Proofs.Ytnbmlkkjgecigar
open Go.RowKit
set_option linter.unusedVariables false

/-- Whether a sector may be put. -/
def mayPut (xs ys : List ByteArray) (i : Int) (s : ByteArray) : Bool := okD xs ys && decide (0 ≤ i ∧ i ≤ (xs.length : Int) - 1) && decide (s.size ≤ 64)

/-- The sectors behind a put. -/
def putX (xs ys : List ByteArray) (i : Int) (s : ByteArray) : List ByteArray := if mayPut xs ys i s then xs.set i.toNat s else xs

theorem putX_len (xs ys : List ByteArray) (i : Int) (s : ByteArray) : (putX xs ys i s).length = xs.length := by
  rw [putX]
  split
  · rw [List.length_set]
  · rfl

end Go.Proofs.Ytnbmlkkjgecigar
