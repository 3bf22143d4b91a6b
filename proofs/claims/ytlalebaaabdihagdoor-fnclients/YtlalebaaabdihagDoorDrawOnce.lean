/- A draw of one of so many. -/
import Derived.Test.YtlalebaaabdihagDoorDrawsC
namespace Go.Proofs.YtlalebaaabdihagDoor
open Go.RowKit
set_option linter.unusedVariables false

set_option maxRecDepth 10000 in
set_option maxHeartbeats 400000 in
theorem l1Once_any (B c : Nat) (a : Option Addr) (len cap : Nat) (zs : List Int) (n : Int) (w : World) (hcur : Cur w B c a len cap zs) (hl : len ≤ 1099511627776) (hn1 : 1 ≤ n) (hn2 : n ≤ 1000000) :
    Calls Tryd.prog 32 #[.pointer (some ⟨c, 0, none⟩), .int .i64 n] w fun e w' => ∃ b : Bool, e = .returned (.bool b) ∧ Cur w' B c a len cap zs ∧ w.grownBy w' (some c) := by
  have HC : Hid _ := hcur
  clear hcur
  go_enter Tryd.func32, Tryd.ntmps32
  go_wp2_with fail
  refine (l1Below_any B c a len cap zs _ _ HC.out hl hn1 hn2).mono ?_
  rintro e w1 ⟨x, rfl, hx0, hx1, hc1, hg1⟩
  have HC1 : Hid _ := hc1
  have HG1 : Hid _ := hg1
  clear hc1 hg1
  go_wp2_with fail
  go_ret
  exact ⟨_, rfl, HC1.out, HG1.out⟩

end Go.Proofs.YtlalebaaabdihagDoor
