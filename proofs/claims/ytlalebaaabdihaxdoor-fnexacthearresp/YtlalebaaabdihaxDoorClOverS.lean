/- What the specification's l17Over answers: whether a client is done. -/
import Derived.Test.YtlalebaaabdihaxDoorClN
import Derived.Test.YtlalebaaabdihaxDoorBoxN
import Derived.Deep.CutBlock
namespace Go.Proofs.YtlalebaaabdihaxDoor
open Go.RowKit
set_option linter.unusedVariables false

set_option maxRecDepth 10000 in
set_option maxHeartbeats 1600000 in
theorem specOver_any (id : ByteArray) (a : Option Addr) (n ca : Nat) (st off : Int) (w : World) :
    Calls Tryd.prog 16 #[.agg #[.string id, .slice a n ca, .int .i64 st, .int .i64 off]] w fun e w' => e = .returned (.bool (decide (st = 5 ∨ st = 6))) ∧ Below w.heap.size w w' := by
  have HB : Hid (Below w.heap.size w (w.alloc (.cells #[.string id, .slice a n ca, .int .i64 st, .int .i64 off] 28))) := (Below.refl _ _).alloc (Nat.le_refl _) _
  by_cases h5 : st = 5
  · subst h5
    go_enter Tryd.func16, Tryd.ntmps16
    go_wp2_with fail
    go_ret
    exact ⟨rfl, HB.out⟩
  have e5 : (st == 5) = false := by simpa using h5
  by_cases h6 : st = 6
  · subst h6
    clear h5
    go_enter Tryd.func16, Tryd.ntmps16
    go_wp2_with fail
    go_ret
    exact ⟨rfl, HB.out⟩
  have e6 : (st == 6) = false := by simpa using h6
  have HF : Hid (decide (st = 5 ∨ st = 6) = false) := by show _ = _; simp [h5, h6]
  clear h5 h6
  go_enter Tryd.func16, Tryd.ntmps16
  go_wp2_with fail
  go_ret
  exact ⟨ret_bool HF.out.symm, HB.out⟩

end Go.Proofs.YtlalebaaabdihaxDoor
