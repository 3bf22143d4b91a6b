/- What is gathered rightly has no stream, or one. -/
import Derived.Test.YtckpacifimpkgadDoorGaNum
namespace Go.Proofs.YtckpacifimpkgadDoor
open Go.RowKit

theorem okG_sign {s : Int} {en : Bool} {n : Nat} (h : okG s en n = true) : s = 0 ∨ 1 ≤ s := by
  unfold okG at h
  split at h
  · exact .inl (by assumption)
  · have := of_decide_eq_true h; exact .inr this.1

end Go.Proofs.YtckpacifimpkgadDoor
