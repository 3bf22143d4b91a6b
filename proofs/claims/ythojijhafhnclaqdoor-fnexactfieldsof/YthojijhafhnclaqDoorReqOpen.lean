/- A request that comes in: its numbers and its text. -/
import Derived.Test.YthojijhafhnclaqDoorOwn
import Derived.Lib.SmallJoins
import Derived.OpenShut
import Derived.ChangeOld
import Derived.WalkKit
import Derived.ProofKit
namespace Go.Proofs.YthojijhafhnclaqDoor
open Go.RowKit Go.ChangeShapes Go.WideShapes
set_option linter.unusedVariables false

set_option maxRecDepth 100000 in
theorem req_opened {H : Type} {enc : TypeId × Value → H} {w : World} {r : Reach} {b0 : Nat} {v : Value} {d : DataW H} {p : List MemPlace} (hv : Value.okWide Tryd.prog w r b0 23 v) (h : DataW.Trod enc Tryd.prog w 0 (fun _ => true) true 23 v d p) :
    ∃ (op n : Int) (s : ByteArray), v = .agg #[.int .i64 op, .string s, .int .i64 n] ∧ s.size ≤ maxLen ∧ (-9223372036854775808 ≤ op ∧ op ≤ 9223372036854775807) ∧ (-9223372036854775808 ≤ n ∧ n ≤ 9223372036854775807) := by
  obtain ⟨v0, v1, v2, y0, y1, y2, m, rfl, _, _, h0, h1, h2⟩ := Go.Joins.open_agg3 Tryd.underlying23 (by kernel_rfl) (by kernel_rfl) hv h
  obtain ⟨op, e0, _, ho⟩ := DataW.trod_int Tryd.underlying3 h0
  obtain ⟨s, e1, _, z1⟩ := DataW.trod_string Tryd.underlying9 h1
  obtain ⟨n, e2, _, hn⟩ := DataW.trod_int Tryd.underlying3 h2
  exact ⟨op, n, s, by simp at e0 e1 e2; rw [e0, e1, e2], z1, bounds_i64 ho, bounds_i64 hn⟩

end Go.Proofs.YthojijhafhnclaqDoor
