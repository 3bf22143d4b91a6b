/- The test that lets greater arguments pass. -/
import Derived.Test.YtlalebaaabdihagDoorOwn
namespace Go.Proofs.YtlalebaaabdihagDoor
open Go.RowKit
set_option linter.unusedVariables false

set_option maxHeartbeats 400000 in
theorem big_any (a : Option Addr) (len cap : Nat) (w : World) (hl : len ≤ maxLen) :
    Calls Tryd.prog 4 #[.slice a len cap] w fun e w' => e = .returned (.bool (decide ((1048576 : Int) < (len : Int)))) ∧ w' = w := by
  go_enter Tryd.func4, Tryd.ntmps4
  go_wp2
  go_ret
  exact ⟨rfl, rfl⟩

end Go.Proofs.YtlalebaaabdihagDoor
