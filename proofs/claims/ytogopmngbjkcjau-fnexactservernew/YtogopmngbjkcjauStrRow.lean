/- Rows of texts in memory: what they hold, rows that a call has made. No statement of the program but its table of types. -/
import Derived.Test.YtogopmngbjkcjauTiny
import Derived.Deep.QuietTactic
namespace Go.Proofs.Ytogopmngbjkcjau
open Go.RowKit
set_option linter.unusedVariables false

/-- The cells of a row of texts. -/
def scells (l : List ByteArray) : List Value := l.map Value.string

theorem scells_len (l : List ByteArray) : (scells l).length = l.length := List.length_map ..

theorem scells_at (l : List ByteArray) (i : Nat) (hi : i < l.length) : (scells l)[i]? = some (.string (l[i])) := by
  simp [scells, hi]

theorem scells_append (l r : List ByteArray) : scells (l ++ r) = scells l ++ scells r := by simp [scells]

theorem scells_set (l : List ByteArray) (x : ByteArray) (k : Nat) : (scells l).set k (.string x) = scells (l.set k x) := by simp [scells, List.map_set]

theorem scells_one (l : List ByteArray) : ∀ u ∈ scells l, u.oneCell' = true := by
  intro u hu
  simp only [scells, List.mem_map] at hu
  obtain ⟨x, _, rfl⟩ := hu
  rfl

/-- The bytes of texts. -/
def strBytes (l : List ByteArray) : Nat := (l.map ByteArray.size).sum

theorem strBytes_step (l : List ByteArray) (k : Nat) (x : ByteArray) (h : l[k]? = some x) : strBytes (l.take (k + 1)) = strBytes (l.take k) + x.size := by
  rw [List.take_add_one, h]
  simp [strBytes]

theorem strBytes_mem (l : List ByteArray) (x : ByteArray) (h : x ∈ l) : x.size ≤ strBytes l := by
  induction l with
  | nil => cases h
  | cons y l ih =>
    have e : strBytes (y :: l) = y.size + strBytes l := by simp [strBytes]
    rcases List.mem_cons.1 h with rfl | h
    · omega
    · have := ih h
      omega

/-- The slice (a, n) holds the texts l in the world w. -/
def Strs (w : World) (a : Option Addr) (n : Nat) (l : List ByteArray) : Prop :=
  l.length = n ∧ (∀ x ∈ l, x.size ≤ maxLen) ∧
  (n = 0 ∨ ∃ b off, a = some ⟨b, off, none⟩ ∧ b < w.heap.size ∧ ∀ i (hi : i < l.length), w.cell? ⟨b, off + i, none⟩ = some (.string (l[i])))

theorem Strs.below {w w' : World} {a : Option Addr} {n : Nat} {l : List ByteArray} (h : Strs w a n l) (hb : Below w.heap.size w w') : Strs w' a n l := by
  obtain ⟨h1, h2, h3⟩ := h
  refine ⟨h1, h2, ?_⟩
  rcases h3 with h0 | ⟨b, off, ha, hlt, hc⟩
  · exact .inl h0
  · exact .inr ⟨b, off, ha, Nat.lt_of_lt_of_le hlt hb.size, fun i hi => (hb.cell (p := ⟨b, off + i, none⟩) hlt).trans (hc i hi)⟩

/-- The cell at one index. -/
theorem Strs.at {w : World} {a : Option Addr} {n : Nat} {l : List ByteArray} (h : Strs w a n l) {k : Nat} (hk : k < n) : ∃ b off x, a = some ⟨b, off, none⟩ ∧ b < w.heap.size ∧ l[k]? = some x ∧ w.cell? ⟨b, off + k, none⟩ = some (.string x) := by
  obtain ⟨h1, h2, h3⟩ := h
  rcases h3 with h0 | ⟨b, off, ha, hlt, hc⟩
  · omega
  · have hk' : k < l.length := by omega
    exact ⟨b, off, l[k], ha, hlt, List.getElem?_eq_getElem hk', hc k hk'⟩

theorem Strs.cells {w : World} {a : Option Addr} {n : Nat} {l : List ByteArray} (h : Strs w a n l) : ∀ ad, a = some ad → ∀ j u, (scells l)[j]? = some u → w.cell? (ad.add j) = some u := by
  intro ad ha j u hj
  have hjl : j < l.length := by
    rw [← scells_len]
    exact (List.getElem?_eq_some_iff.1 hj).1
  rcases h.2.2 with h0 | ⟨b, off, e, hb, hc⟩
  · have := h.1
    omega
  · rw [ha] at e
    injection e with e
    subst e
    have hadd : (⟨b, off, none⟩ : Addr).add j = ⟨b, off + j, none⟩ := by unfold Addr.add; split <;> simp_all
    rw [hadd, hc j hjl, ← scells_at l j hjl, hj]

theorem Strs.none_nil {w : World} {a : Option Addr} {n : Nat} {l : List ByteArray} (h : Strs w a n l) (ha : a = none) : n = 0 := by
  rcases h.2.2 with h0 | ⟨b, off, e, _⟩
  · exact h0
  · rw [ha] at e
    cases e

theorem Strs.nil (w : World) (a : Option Addr) : Strs w a 0 [] := ⟨rfl, by simp, .inl rfl⟩

/-- A slice value that owns these texts, in a block from base on. -/
def OwnSt (w : World) (base : Nat) (v : Value) (n : Nat) (l : List ByteArray) : Prop := w.ownsRow base 9 1 v n (scells l) ∧ ∀ x ∈ l, x.size ≤ maxLen

theorem OwnSt.len {w : World} {base n : Nat} {v : Value} {l : List ByteArray} (h : OwnSt w base v n l) : l.length = n := by
  have := h.1.1
  rw [scells_len] at this
  omega

theorem OwnSt.shape {w : World} {base n : Nat} {v : Value} {l : List ByteArray} (h : OwnSt w base v n l) : ∃ a cap, v = .slice a n cap := by
  rcases h.1.2 with ⟨rfl, rfl⟩ | ⟨g, cap, cur, rfl, _⟩
  · exact ⟨_, _, rfl⟩
  · exact ⟨_, _, rfl⟩

theorem OwnSt.strs {w : World} {base n cap : Nat} {a : Option Addr} {l : List ByteArray} (h : OwnSt w base (.slice a n cap) n l) : Strs w a n l := by
  have hl := h.len
  refine ⟨hl, h.2, ?_⟩
  rcases h.1.2 with ⟨_, hn⟩ | ⟨g, cap', cur, he, hb, hg, hn, hm, hc, ht⟩
  · exact .inl hn
  · injection he with e1 e2 e3
    subst e1
    refine .inr ⟨g, 0, rfl, (Array.getElem?_eq_some_iff.1 hg).1, fun i hi => ?_⟩
    have hi' : i < n := by omega
    rw [Nat.zero_add, cell_of_row w g i cur _ (0, 0) hg, ← scells_at l i hi, ← ht, List.getElem?_take, if_pos (by omega), Array.getElem?_toList]

theorem OwnSt.below {w w' : World} {base n : Nat} {v : Value} {l : List ByteArray} (h : OwnSt w base v n l) (hb : Below w.heap.size w w') : OwnSt w' base v n l := by
  refine ⟨⟨h.1.1, ?_⟩, h.2⟩
  rcases h.1.2 with h0 | ⟨g, cap, cur, he, hg, hh, r⟩
  · exact .inl h0
  · exact .inr ⟨g, cap, cur, he, hg, (hb.block g (Array.getElem?_eq_some_iff.1 hh).1).trans hh, r⟩

theorem OwnSt.grown {w w' : World} {base n : Nat} {v : Value} {l : List ByteArray} {r : Option Nat} (h : OwnSt w base v n l) (hg : w.grownBy w' r) (hr : ∀ q, r = some q → ∀ p m c, v = .slice (some p) m c → p.block ≠ q) : OwnSt w' base v n l := by
  refine ⟨⟨h.1.1, ?_⟩, h.2⟩
  rcases h.1.2 with h0 | ⟨g, cap, cur, he, hgb, hh, rest⟩
  · exact .inl h0
  · refine .inr ⟨g, cap, cur, he, hgb, (hg.block g (Array.getElem?_eq_some_iff.1 hh).1 ?_).trans hh, rest⟩
    intro e
    exact hr g e.symm _ _ _ he rfl

theorem info_string : (Try.prog.info? 9).map (fun i => (i.zero, i.size, i.bytes)) = some (some (.string ⟨#[]⟩), 1, 16) := by kernel_rfl

/-- A row that is copied up to k. -/
def srowTo (l : List ByteArray) (len k : Nat) : List ByteArray := l.take k ++ List.replicate (len - k) ⟨#[]⟩

theorem srowTo_step (l : List ByteArray) (len k : Nat) (x : ByteArray) (h : l[k]? = some x) (hk : k < len) : (srowTo l len k).set k x = srowTo l len (k + 1) := by
  have hl : k < l.length := (List.getElem?_eq_some_iff.1 h).1
  have ht : (l.take k).length = k := by simp; omega
  rw [srowTo, srowTo, List.set_append_right k _ (by omega), ht, Nat.sub_self, List.take_add_one, h, show len - k = (len - (k + 1)) + 1 by omega, List.replicate_succ]
  simp

theorem srowTo_len (l : List ByteArray) (len k : Nat) (h : l.length = len) (hk : k ≤ len) : (srowTo l len k).length = len := by
  simp [srowTo]; omega

end Go.Proofs.Ytogopmngbjkcjau
