/- What the program's sectorLong and hasSector answer. -/
import Derived.Test.YtnbmlkkjgecigasStrRow
import Derived.Test.YtnbmlkkjgecigasBox2R
import Derived.Test.YtnbmlkkjgecigasDskNum
namespace Go.Proofs.Ytnbmlkkjgecigas
open Go.RowKit
set_option linter.unusedVariables false

theorem ret_bD {a b : Bool} (h : a = b) : Ending.returned (.bool a) = .returned (.bool b) := by rw [h]

theorem implLong_any (s : ByteArray) (w : World) (hs : s.size ≤ maxLen) :
    Calls Try.prog 47 #[.string s] w fun e w' => e = .returned (.bool (!fitsD s)) ∧ w' = w := by
  have hmm : maxLen < 9223372036854775808 := by decide
  have HF : Hid ((!fitsD s) = decide ((64 : Int) < (s.size : Int))) := by
    show _ = _
    rw [fitsD, ← decide_not, decide_eq_decide]
    omega
  go_enter Try.func47, Try.ntmps47
  go_wp2_with fail
  go_ret
  exact ⟨ret_bD HF.out.symm, rfl⟩

end Go.Proofs.Ytnbmlkkjgecigas
