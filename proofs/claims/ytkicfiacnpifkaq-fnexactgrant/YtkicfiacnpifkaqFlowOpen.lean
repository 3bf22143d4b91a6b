/- A flow that comes in: its numbers and its lanes. -/
import Derived.Test.YtkicfiacnpifkaqLaneOpen
namespace Go.Proofs.Ytkicfiacnpifkaq
open Go.RowKit Go.ChangeShapes Go.WideShapes
set_option linter.unusedVariables false

set_option maxRecDepth 100000 in
theorem flow_opened {H : Type} {enc : TypeId × Value → H} {w : World} {r : Reach} {b0 : Nat} {v : Value} {d : DataW H} {p : List MemPlace} (hv : Value.okWide Try.prog w r b0 24 v) (h : DataW.Trod enc Try.prog w 0 (fun _ => true) true 24 v d p) :
    ∃ (s en : Int) (a : Option Addr) (len cap : Nat) (zs : List Lane), v = .agg #[.int .i64 s, .int .i64 en, .slice a len cap] ∧ i64b s ∧ i64b en ∧ len ≤ maxLen ∧ Lanes w a len zs := by
  obtain ⟨v0, v1, v2, y0, y1, y2, n, rfl, _, _, h0, h1, h2⟩ := Go.Joins.open_agg3 Try.underlying24 (by kernel_rfl) (by kernel_rfl) hv h
  obtain ⟨s, e0, _, hs⟩ := DataW.trod_int Try.underlying3 h0
  obtain ⟨en, e1, _, he⟩ := DataW.trod_int Try.underlying3 h1
  obtain ⟨a, len, cap, zs, rfl, hl, hx⟩ := Lanes.opened h2
  exact ⟨s, en, a, len, cap, zs, by simp at e0 e1; rw [e0, e1], bounds_i64 hs, bounds_i64 he, hl, hx⟩

end Go.Proofs.Ytkicfiacnpifkaq
