/- A client that comes in: its name, its file and its numbers. -/
import Derived.Test.YtlalebaaabdihaxBytesOpen
namespace Go.Proofs.Ytlalebaaabdihax
open Go.RowKit Go.ChangeShapes Go.WideShapes
set_option linter.unusedVariables false

set_option maxRecDepth 100000 in
theorem client_opened {H : Type} {enc : TypeId × Value → H} {w : World} {r : Reach} {b0 : Nat} {v : Value} {d : DataW H} {p : List MemPlace} (hv : Value.okWide Try.prog w r b0 24 v) (h : DataW.Trod enc Try.prog w 0 (fun _ => true) true 24 v d p) :
    ∃ (id : ByteArray) (a : Option Addr) (len cap : Nat) (zs : List Int) (st off : Int), v = .agg #[.string id, .slice a len cap, .int .i64 st, .int .i64 off] ∧ id.size ≤ maxLen ∧ len ≤ maxLen ∧ Seg w a len zs := by
  obtain ⟨v0, v1, v2, v3, y0, y1, y2, y3, n, rfl, _, _, h0, h1, h2, h3⟩ := Go.Joins.open_agg4 Try.underlying24 (by kernel_rfl) (by kernel_rfl) hv h
  obtain ⟨id, e0, _, z0⟩ := DataW.trod_string Try.underlying9 h0
  obtain ⟨a, len, cap, zs, rfl, hlc, hl, hx⟩ := bytes_opened h1
  obtain ⟨s, e2, _, hs⟩ := DataW.trod_int Try.underlying3 h2
  obtain ⟨f, e3, _, hf⟩ := DataW.trod_int Try.underlying3 h3
  exact ⟨id, a, len, cap, zs, s, f, by simp at e0 e2 e3; rw [e0, e2, e3], z0, hl, hx⟩

end Go.Proofs.Ytlalebaaabdihax
