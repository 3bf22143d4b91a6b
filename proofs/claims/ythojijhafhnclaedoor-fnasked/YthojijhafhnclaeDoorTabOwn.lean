/- Rows of fields that a call has made. No statement of the program but its table of types. -/
import Derived.Test.YthojijhafhnclaeDoorTabRow
import Derived.Test.YthojijhafhnclaeDoorTabFit
namespace Go.Proofs.YthojijhafhnclaeDoor
open Go.RowKit
set_option linter.unusedVariables false

/-- A slice value that owns these fields, in a block from base on. -/
def OwnF (w : World) (base : Nat) (v : Value) (n : Nat) (xs : List Fld) : Prop := w.ownsRow base 38 2 v n (fieldCells xs) ∧ ∀ f ∈ xs, f.1.size ≤ maxLen ∧ f.2.size ≤ maxLen

theorem OwnF.len {w : World} {base n : Nat} {v : Value} {xs : List Fld} (h : OwnF w base v n xs) : xs.length = n := by
  have := h.1.1
  rw [fieldCells_len] at this
  omega

theorem OwnF.shape {w : World} {base n : Nat} {v : Value} {xs : List Fld} (h : OwnF w base v n xs) : ∃ a cap, v = .slice a n cap := by
  rcases h.1.2 with ⟨rfl, rfl⟩ | ⟨g, cap, cur, rfl, _⟩
  · exact ⟨_, _, rfl⟩
  · exact ⟨_, _, rfl⟩

theorem OwnF.flds {w : World} {base n cap : Nat} {a : Option Addr} {xs : List Fld} (h : OwnF w base (.slice a n cap) n xs) : Flds w a n xs := by
  have hl := h.len
  refine ⟨hl, h.2, ?_⟩
  rcases h.1.2 with ⟨_, hn⟩ | ⟨g, cap', cur, he, hb, hg, hn, hm, hc, ht⟩
  · exact .inl hn
  · injection he with e1 e2 e3
    subst e1
    refine .inr ⟨g, 0, rfl, (Array.getElem?_eq_some_iff.1 hg).1, fun i hi => ?_⟩
    have hi' : i < n := by omega
    have hget : ∀ j, j < n * 2 → w.cell? ⟨g, j, none⟩ = (fieldCells xs)[j]? := by
      intro j hj
      rw [cell_of_row w g j cur _ (0, 0) hg, ← ht, List.getElem?_take, if_pos hj, Array.getElem?_toList]
    have := fieldCells_at xs i hi
    rw [Nat.mul_comm 2 i] at this
    rw [Nat.zero_add, hget (i * 2) (by omega), hget (i * 2 + 1) (by omega)]
    exact this

theorem Flds.cells {w : World} {a : Option Addr} {n : Nat} {xs : List Fld} (h : Flds w a n xs) : ∀ ad, a = some ad → ∀ j u, (fieldCells xs)[j]? = some u → w.cell? (ad.add j) = some u := by
  intro ad ha j u hj
  have hjl : j < 2 * xs.length := by
    rw [← fieldCells_len]
    exact (List.getElem?_eq_some_iff.1 hj).1
  rcases h.2.2 with h0 | ⟨b, off, e, hb, hc⟩
  · have := h.1
    omega
  · rw [ha] at e
    injection e with e
    subst e
    have hadd : (⟨b, off, none⟩ : Addr).add j = ⟨b, off + j, none⟩ := by unfold Addr.add; split <;> simp_all
    rw [hadd]
    have hi : j / 2 < xs.length := by omega
    have h1 := hc (j / 2) hi
    have h2 := fieldCells_at xs (j / 2) hi
    rcases Nat.mod_two_eq_zero_or_one j with hm | hm
    · have e1 : off + j = off + j / 2 * 2 := by omega
      have e2 : j = 2 * (j / 2) := by omega
      rw [e1, h1.1, ← h2.1, ← e2, hj]
    · have e1 : off + j = off + j / 2 * 2 + 1 := by omega
      have e2 : j = 2 * (j / 2) + 1 := by omega
      rw [e1, h1.2, ← h2.2, ← e2, hj]

theorem Flds.none_nil {w : World} {a : Option Addr} {n : Nat} {xs : List Fld} (h : Flds w a n xs) (ha : a = none) : n = 0 := by
  rcases h.2.2 with h0 | ⟨b, off, e, _⟩
  · exact h0
  · rw [ha] at e
    cases e

theorem fieldCells_one (xs : List Fld) : ∀ u ∈ fieldCells xs, u.oneCell' = true := by
  intro u hu
  simp only [fieldCells, List.mem_flatMap] at hu
  obtain ⟨f, _, hf⟩ := hu
  simp at hf
  rcases hf with rfl | rfl <;> rfl

theorem fieldCells_append (xs ys : List Fld) : fieldCells (xs ++ ys) = fieldCells xs ++ fieldCells ys := by simp [fieldCells]

theorem fieldCells_take (xs : List Fld) : ∀ k, fieldCells (xs.take k) = (fieldCells xs).take (k * 2) := by
  induction xs with
  | nil => intro k; simp [fieldCells]
  | cons f xs ih =>
    intro k
    cases k with
    | zero => simp [fieldCells]
    | succ k =>
      have e : fieldCells (f :: xs) = .string f.1 :: .string f.2 :: fieldCells xs := rfl
      rw [List.take_succ_cons, e, show (k + 1) * 2 = k * 2 + 1 + 1 by omega, List.take_succ_cons, List.take_succ_cons, ← ih k]
      rfl

/-- A row of one's own that is cut behind its first k fields. -/
theorem OwnF.take {w : World} {base n cap : Nat} {a : Option Addr} {xs : List Fld} (h : OwnF w base (.slice a n cap) n xs) (k : Nat) (hk : k ≤ n) (ha : a ≠ none) : OwnF w base (.slice a k cap) k (xs.take k) := by
  have hl := h.len
  refine ⟨⟨?_, ?_⟩, fun f hf => h.2 f (List.mem_of_mem_take hf)⟩
  · rw [fieldCells_len, List.length_take]
    omega
  · rcases h.1.2 with ⟨he, _⟩ | ⟨g, cap', cur, he, hb, hg, hn, hm, hc, ht⟩
    · injection he with e1 _ _
      exact absurd e1 ha
    · injection he with e1 e2 e3
      subst e1 e3
      refine .inr ⟨g, cap, cur, rfl, hb, hg, by omega, hm, hc, ?_⟩
      rw [fieldCells_take, ← ht, List.take_take]
      congr 1
      omega

end Go.Proofs.YthojijhafhnclaeDoor
