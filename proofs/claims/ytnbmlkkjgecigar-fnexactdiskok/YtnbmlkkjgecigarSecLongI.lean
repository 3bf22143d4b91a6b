/- What the program's sectorLong and hasSector answer. -/
import Derived.Test.YtnbmlkkjgecigarStrRow
import Derived.Test.YtnbmlkkjgecigarBox2R
import Derived.Test.YtnbmlkkjgecigarDskNum
namespace Go.Proofs.Ytnbmlkkjgecigar
open Go.RowKit
set_option linter.unusedVariables false

theorem ret_bD {a b : Bool} (h : a = b) : Ending.returned (.bool a) = .returned (.bool b) := by rw [h]

theorem implLong_any (s : ByteArray) (w : World) (hs : s.size ≤ maxLen) :
    Calls Try.prog 26 #[.string s] w fun e w' => e = .returned (.bool (!fitsD s)) ∧ w' = w := by
  have hmm : maxLen < 9223372036854775808 := by decide
  have HF : Hid ((!fitsD s) = decide ((64 : Int) < (s.size : Int))) := by
    show _ = _
    rw [fitsD, ← decide_not, decide_eq_decide]
    omega
  go_enter Try.func26, Try.ntmps26
  go_wp2_with fail
  go_ret
  exact ⟨ret_bD HF.out.symm, rfl⟩

end Go.Proofs.Ytnbmlkkjgecigar
