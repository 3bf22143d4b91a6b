/- Rows of texts and the block that they lie in. No program in it but its table of types. -/
import Derived.Test.YtogopmngbjkcjauStrRow
import Derived.Test.YtogopmngbjkcjauBox2R
namespace Go.Proofs.Ytogopmngbjkcjau
open Go.RowKit
set_option linter.unusedVariables false

/-- What lies behind a slice value, if it has a block. -/
def blkOf : Value → Option Nat
  | .slice (some p) _ _ => some p.block
  | _ => none

theorem OwnSt.low {w : World} {base lo n : Nat} {v : Value} {l : List ByteArray} (h : OwnSt w base v n l) (hl : lo ≤ base) : OwnSt w lo v n l := by
  refine ⟨⟨h.1.1, ?_⟩, h.2⟩
  rcases h.1.2 with h0 | ⟨g, cap, cur, he, hg, r⟩
  · exact .inl h0
  · exact .inr ⟨g, cap, cur, he, Nat.le_trans hl hg, r⟩

theorem OwnSt.lt {w : World} {base n : Nat} {v : Value} {l : List ByteArray} (h : OwnSt w base v n l) : ∀ q, blkOf v = some q → base ≤ q ∧ q < w.heap.size := by
  intro q hq
  rcases h.1.2 with ⟨rfl, _⟩ | ⟨g, cap, cur, rfl, hg, hh, _⟩
  · simp [blkOf] at hq
  · obtain rfl : g = q := by simpa [blkOf] using hq
    exact ⟨hg, (Array.getElem?_eq_some_iff.1 hh).1⟩

theorem OwnSt.kept {w w' : World} {base n : Nat} {v : Value} {l : List ByteArray} {r : Option Nat} (h : OwnSt w base v n l) (hg : w.grownBy w' r) (hr : ∀ q, r = some q → blkOf v ≠ some q) : OwnSt w' base v n l := by
  refine h.grown hg fun q hq p m c hv hne => hr q hq ?_
  rw [hv, ← hne]
  rfl

theorem OwnSt.setCell {w : World} {base n : Nat} {v : Value} {l : List ByteArray} (h : OwnSt w base v n l) {b k : Nat} (hb : blkOf v ≠ some b) (u : Value) : OwnSt (w.setCell ⟨b, k, none⟩ u) base v n l := by
  refine ⟨⟨h.1.1, ?_⟩, h.2⟩
  rcases h.1.2 with h0 | ⟨g, cap, cur, rfl, hg, hh, r⟩
  · exact .inl h0
  · exact .inr ⟨g, cap, cur, rfl, hg, (set_block_ne w g b k u (fun e => hb (by rw [blkOf, e]))).trans hh, r⟩

end Go.Proofs.Ytogopmngbjkcjau
