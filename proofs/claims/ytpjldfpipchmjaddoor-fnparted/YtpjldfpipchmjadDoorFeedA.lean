/- Small facts for Feed. -/
import Derived.Test.YtpjldfpipchmjadDoorGrow
import Derived.Test.YtpjldfpipchmjadDoorAsHit
import Derived.Test.YtpjldfpipchmjadDoorGaParts
import Derived.RangeFuncBox
import Derived.Deep.RegionHeld3
namespace Go.Proofs.YtpjldfpipchmjadDoor
open Go.RowKit
set_option linter.unusedVariables false

theorem cell_grow {Y : World} {b i : Nat} {v : Value} {o : Obj} (h : Y.cell? ⟨b, i, none⟩ = some v) : (Y.alloc o).cell? ⟨b, i, none⟩ = some v := (World.cell?_alloc_lt _ _ ⟨b, i, none⟩ (lt_of_cell h)).trans h

theorem errT_below {w w' : World} (h : ErrT w) (hb : Below w.heap.size w w') : ErrT w' := by
  unfold ErrT at h ⊢
  exact (hb.cell (p := ⟨1, 0, none⟩) (lt_of_cell h)).trans h

set_option maxHeartbeats 400000 in
theorem isPart_any (k f fs : Int) (b : Option Addr) (m capb : Nat) (w : World) :
    Calls Tryd.prog 37 #[.agg #[.int .i64 k, .int .i64 f, .int .i64 fs, .slice b m capb]] w fun e w' => e = .returned (.bool ((k == 1) || (k == 9))) ∧ Below w.heap.size w w' := by
  cases h1 : (k == 1) with
  | true =>
    go_enter Tryd.func37, Tryd.ntmps37
    go_wp2
    go_ret
    exact ⟨ret_bool (by simp), (Below.refl _ _).alloc (Nat.le_refl _) _⟩
  | false =>
    go_enter Tryd.func37, Tryd.ntmps37
    go_wp2
    go_ret
    exact ⟨ret_bool (by simp), (Below.refl _ _).alloc (Nat.le_refl _) _⟩

end Go.Proofs.YtpjldfpipchmjadDoor
