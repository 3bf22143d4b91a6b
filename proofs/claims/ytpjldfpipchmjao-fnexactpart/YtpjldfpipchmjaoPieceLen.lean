/- How many bytes a frame takes at the most: what the program's pieceLen answers. -/
import Derived.Test.YtpjldfpipchmjaoPartNum
import Derived.Test.YtpjldfpipchmjaoOwn
namespace Go.Proofs.Ytpjldfpipchmjao
open Go.RowKit
set_option linter.unusedVariables false

set_option maxRecDepth 10000 in
set_option maxHeartbeats 800000 in
theorem pieceLen_any (most : Int) (m : Nat) (w : World) (hm : clampM most = m) :
    Calls Try.prog 14 #[.int .i64 most] w fun e w' => e = .returned (.int .i64 (m : Int)) ∧ w' = w := by
  obtain ⟨mx, hmx⟩ : ∃ mx : Int, (if most < 1 then (1 : Int) else most) = mx := ⟨_, rfl⟩
  have hmn : (if (1000 : Int) < mx then (1000 : Int) else mx) = (m : Int) := by
    rw [← hmx, ← hm]
    unfold clampM
    split <;> split <;> omega
  have qx : ∀ w : World, (Builtin.max_ #[3, 3] 3 #[.int .i64 most, .int .i64 1]).run Try.prog w = .ok (.int .i64 mx) w := fun w => by rw [run_max_int2]; simp only [gt_iff_lt, hmx]
  have qn : ∀ w : World, (Builtin.min_ #[3, 3] 3 #[.int .i64 mx, .int .i64 1000]).run Try.prog w = .ok (.int .i64 m) w := fun w => by rw [run_min_int2, hmn]
  clear hmx hmn hm
  go_enter Try.func14, Try.ntmps14
  go_wp2_with fail
  go_ret
  exact ⟨rfl, rfl⟩

end Go.Proofs.Ytpjldfpipchmjao
