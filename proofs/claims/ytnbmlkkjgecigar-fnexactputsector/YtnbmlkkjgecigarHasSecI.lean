/- What the program's hasSector answers. -/
import Derived.Test.YtnbmlkkjgecigarSecLongI
namespace Go.Proofs.Ytnbmlkkjgecigar
open Go.RowKit
set_option linter.unusedVariables false

/-- Whether there is a sector i. -/
def hasB (n : Nat) (i : Int) : Bool := decide (0 ≤ i ∧ i < (n : Int))

theorem implHas_any (a : Option Addr) (n ca : Nat) (a' : Option Addr) (n' ca' : Nat) (i : Int) (w : World) (hn : n ≤ 1099511627776) :
    Calls Try.prog 28 #[.agg #[.slice a n ca, .slice a' n' ca'], .int .i64 i] w fun e w' => e = .returned (.bool (hasB n i)) ∧ Below w.heap.size w w' := by
  have HB : Hid (Below w.heap.size w (w.alloc (Obj.cells #[Value.slice a n ca, Value.slice a' n' ca'] 24))) := (Below.refl _ _).alloc (Nat.le_refl _) _
  by_cases h0 : 0 ≤ i
  · have HF : Hid (hasB n i = decide (i < (n : Int))) := by
      show _ = _
      rw [hasB, decide_eq_decide]
      omega
    go_enter Try.func28, Try.ntmps28
    go_wp2_with fail
    go_ret
    exact ⟨ret_bD HF.out.symm, HB.out⟩
  · have HF : Hid (hasB n i = false) := decide_eq_false (by omega)
    go_enter Try.func28, Try.ntmps28
    go_wp2_with fail
    go_ret
    exact ⟨ret_bD HF.out.symm, HB.out⟩

end Go.Proofs.Ytnbmlkkjgecigar
