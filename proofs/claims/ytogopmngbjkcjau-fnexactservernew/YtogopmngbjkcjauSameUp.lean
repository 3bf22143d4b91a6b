/- Rows whose blocks are as they were. No program in it. -/
import Derived.Test.YtogopmngbjkcjauUpRow
namespace Go.Proofs.Ytogopmngbjkcjau
open Go.RowKit
set_option linter.unusedVariables false

theorem own_same {W W' : World} {base n size : Nat} {e : TypeId} {v : Value} {xs : List Value} (h : W.ownsRow base e size v n xs) (hq : ∀ q, v.ownBlock = some q → W'.heap[q]? = W.heap[q]?) : W'.ownsRow base e size v n xs := by
  refine ⟨h.1, ?_⟩
  rcases h.2 with h0 | ⟨g, cap, cur, rfl, hb, hg, r⟩
  · exact .inl h0
  · exact .inr ⟨g, cap, cur, rfl, hb, (hq g rfl).trans hg, r⟩

theorem Owns.same {W W' : World} {base n c : Nat} {a : Option Addr} {zs : List Int} (h : Owns W base a n c zs) (hq : ∀ q, a.map (·.block) = some q → W'.heap[q]? = W.heap[q]?) : Owns W' base a n c zs := ⟨own_same h.1 (fun q e => hq q (by rw [← ownBlock_sU a n c]; exact e)), h.2⟩

theorem UpRow.same {W W' : World} {base : Nat} {v : Value} {l : List UE} (h : UpRow W base v l) (h1 : ∀ q, v.ownBlock = some q → W'.heap[q]? = W.heap[q]?) (h2 : ∀ e ∈ l, ∀ q, e.a.map (·.block) = some q → W'.heap[q]? = W.heap[q]?) : UpRow W' base v l :=
  ⟨own_same h.1 h1, fun e he => (h.2.1 e he).same (h2 e he), h.2.2⟩

end Go.Proofs.Ytogopmngbjkcjau
