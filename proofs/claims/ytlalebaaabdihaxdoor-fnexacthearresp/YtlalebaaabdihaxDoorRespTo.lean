/- An answer as the laws hand it on: its copy, held against itself. -/
import Derived.Test.YtlalebaaabdihaxDoorBox2R
import Derived.WalkKit
namespace Go.Proofs.YtlalebaaabdihaxDoor
open Go.RowKit
set_option linter.unusedVariables false

set_option maxRecDepth 10000 in
set_option maxHeartbeats 800000 in
theorem toResp_any (st off : Int) (w : World) :
    Calls Tryd.prog 7 #[.agg #[.int .i64 st, .int .i64 off]] w fun e w' => e = .returned (.agg #[.int .i64 st, .int .i64 off]) ∧ Below w.heap.size w w' := by
  go_enter Tryd.func7, Tryd.ntmps7
  go_wp2
  refine bodyPost_ret (v := .agg #[.int .i64 st, .int .i64 off]) (by simp [results, Tryd.f7, go_sem]) rfl ?_
  exact ⟨rfl, (((Below.refl _ _).alloc (Nat.le_refl _) _).alloc (by simp) _).alloc (by simp; omega) _⟩

end Go.Proofs.YtlalebaaabdihaxDoor
