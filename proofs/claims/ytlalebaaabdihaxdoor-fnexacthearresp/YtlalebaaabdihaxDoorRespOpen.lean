/- An answer that comes in: its numbers. -/
import Derived.Test.YtlalebaaabdihaxDoorOwn
import Derived.Lib.SmallJoins
import Derived.OpenShut
import Derived.ChangeOld
import Derived.WalkKit
import Derived.ProofKit
namespace Go.Proofs.YtlalebaaabdihaxDoor
open Go.RowKit Go.ChangeShapes Go.WideShapes
set_option linter.unusedVariables false

set_option maxRecDepth 100000 in
theorem resp_opened {H : Type} {enc : TypeId × Value → H} {w : World} {r : Reach} {b0 : Nat} {v : Value} {d : DataW H} {p : List MemPlace} (hv : Value.okWide Tryd.prog w r b0 26 v) (h : DataW.Trod enc Tryd.prog w 0 (fun _ => true) true 26 v d p) :
    ∃ (st off : Int), v = .agg #[.int .i64 st, .int .i64 off] ∧ (-9223372036854775808 ≤ st ∧ st ≤ 9223372036854775807) ∧ (-9223372036854775808 ≤ off ∧ off ≤ 9223372036854775807) := by
  obtain ⟨v0, v1, y0, y1, m, rfl, _, _, h0, h1⟩ := Go.Joins.open_agg2 Tryd.underlying26 (by kernel_rfl) (by kernel_rfl) hv h
  obtain ⟨st, e0, _, ho⟩ := DataW.trod_int Tryd.underlying3 h0
  obtain ⟨off, e1, _, hn⟩ := DataW.trod_int Tryd.underlying3 h1
  exact ⟨st, off, by simp at e0 e1; rw [e0, e1], bounds_i64 ho, bounds_i64 hn⟩

end Go.Proofs.YtlalebaaabdihaxDoor
