/- Whether what is gathered is right: the model. -/
import Derived.Test.YtpjldfpipchmjadDoorOwn
namespace Go.Proofs.YtpjldfpipchmjadDoor
open Go.RowKit
set_option linter.unusedVariables false

/-- Is what is gathered right? -/
def okG (s : Int) (en : Bool) (n : Nat) : Bool := if s = 0 then !en && (n == 0) else decide (1 ≤ s ∧ s ≤ 2147483647 ∧ n ≤ 3000)

theorem okG_zero (en : Bool) (n : Nat) : okG 0 en n = (!en && (n == 0)) := by simp [okG]

theorem okG_no {s : Int} {en : Bool} {n : Nat} (h0 : ¬ s = 0) (h : ¬ (1 ≤ s ∧ s ≤ 2147483647 ∧ n ≤ 3000)) : okG s en n = false := by rw [okG, if_neg h0]; exact decide_eq_false h

theorem okG_yes {s : Int} {en : Bool} {n : Nat} (h0 : ¬ s = 0) (h1 : 1 ≤ s) (h2 : s ≤ 2147483647) : okG s en n = decide (n ≤ 3000) := by rw [okG, if_neg h0]; simp [h1, h2]

theorem zero_len (n : Nat) : ((n : Int) == 0) = (n == 0) := by
  cases n with
  | zero => rfl
  | succ n => simp only [beq_eq_false_iff_ne.2 (show ((n + 1 : Nat) : Int) ≠ 0 by omega), beq_eq_false_iff_ne.2 (show n + 1 ≠ 0 by omega)]

end Go.Proofs.YtpjldfpipchmjadDoor
