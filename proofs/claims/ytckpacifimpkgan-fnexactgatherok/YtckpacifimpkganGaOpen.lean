/- What is gathered comes in: its numbers and its bytes. -/
import Derived.Test.YtckpacifimpkganBytesOpen
namespace Go.Proofs.Ytckpacifimpkgan
open Go.RowKit Go.ChangeShapes Go.WideShapes
set_option linter.unusedVariables false

set_option maxRecDepth 100000 in
theorem gather_opened {H : Type} {enc : TypeId × Value → H} {w : World} {r : Reach} {b0 : Nat} {v : Value} {d : DataW H} {p : List MemPlace} (hv : Value.okWide Try.prog w r b0 46 v) (h : DataW.Trod enc Try.prog w 0 (fun _ => true) true 46 v d p) :
    ∃ (s : Int) (en : Bool) (a : Option Addr) (len cap : Nat) (zs : List Int), v = .agg #[.int .i64 s, .bool en, .slice a len cap] ∧ (Lit.int .i64 s).wf = true ∧ len ≤ cap ∧ len ≤ maxLen ∧ Seg w a len zs := by
  obtain ⟨v0, v1, v2, y0, y1, y2, n, rfl, _, _, h0, h1, h2⟩ := Go.Joins.open_agg3 Try.underlying46 (by kernel_rfl) (by kernel_rfl) hv h
  obtain ⟨s, e0, _, hs⟩ := DataW.trod_int Try.underlying3 h0
  obtain ⟨en, e1, _⟩ := DataW.trod_bool Try.underlying4 h1
  obtain ⟨a, len, cap, zs, rfl, hlc, hl, hx⟩ := bytes_opened h2
  exact ⟨s, en, a, len, cap, zs, by simp at e0 e1; rw [e0, e1], hs, hlc, hl, hx⟩

end Go.Proofs.Ytckpacifimpkgan
