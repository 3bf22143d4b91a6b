/- Rows of texts cut in two. No program in it but its table of types. -/
import Derived.Test.YtogopmngbjkcjauStrRow
namespace Go.Proofs.Ytogopmngbjkcjau
open Go.RowKit
set_option linter.unusedVariables false

/-- A slice value whose parts may be taken. -/
def SlOk (a : Option Addr) (n ca : Nat) : Prop := n ≤ ca ∧ ca ≤ maxLen ∧ ((a = none ∧ ca = 0) ∨ ∃ b off, a = some ⟨b, off, none⟩)

theorem OwnSt.sl {w : World} {base n ca : Nat} {a : Option Addr} {l : List ByteArray} (h : OwnSt w base (.slice a n ca) n l) : SlOk a n ca := by
  rcases h.1.2 with ⟨h0, h1⟩ | ⟨g, cap, cur, he, hb, hg, hn, hm, hc, ht⟩
  · injection h0 with e1 e2 e3
    subst e1 e2 e3
    exact ⟨Nat.le_refl _, Nat.zero_le _, .inl ⟨rfl, rfl⟩⟩
  · injection he with e1 e2 e3
    subst e1 e3
    exact ⟨hn, hm, .inr ⟨g, 0, rfl⟩⟩

theorem Strs.take {w : World} {a : Option Addr} {n : Nat} {l : List ByteArray} (h : Strs w a n l) {k : Nat} (hk : k ≤ n) : Strs w a k (l.take k) := by
  obtain ⟨h1, h2, h3⟩ := h
  refine ⟨by rw [List.length_take]; omega, fun s hs => h2 s (List.mem_of_mem_take hs), ?_⟩
  rcases h3 with h0 | ⟨b, off, ha, hlt, hc⟩
  · exact .inl (by omega)
  · by_cases hk0 : k = 0
    · exact .inl hk0
    · refine .inr ⟨b, off, ha, hlt, fun i hi => ?_⟩
      have hil : i < l.length := by rw [List.length_take] at hi; omega
      rw [List.getElem_take]
      exact hc i hil

theorem Strs.drop {w : World} {b off n : Nat} {l : List ByteArray} (h : Strs w (some ⟨b, off, none⟩) n l) {k : Nat} (hk : k ≤ n) : Strs w (some ⟨b, off + k, none⟩) (n - k) (l.drop k) := by
  obtain ⟨h1, h2, h3⟩ := h
  refine ⟨by rw [List.length_drop]; omega, fun s hs => h2 s (List.mem_of_mem_drop hs), ?_⟩
  rcases h3 with h0 | ⟨b', off', ha, hlt, hc⟩
  · exact .inl (by omega)
  · injection ha with ha
    injection ha with e1 e2
    subst e1 e2
    refine .inr ⟨b, off + k, rfl, hlt, fun i hi => ?_⟩
    have hil : k + i < l.length := by rw [List.length_drop] at hi; omega
    have := hc (k + i) hil
    rw [List.getElem_drop]
    rw [show off + k + i = off + (k + i) by omega]
    exact this

theorem Strs.gone {w : World} {a : Option Addr} {n : Nat} {l : List ByteArray} (h : Strs w a n l) (a' : Option Addr) {k : Nat} (hk : n ≤ k) : Strs w a' 0 (l.drop k) := by
  have : l.drop k = [] := List.drop_of_length_le (by have := h.1; omega)
  rw [this]
  exact ⟨rfl, by simp, .inl rfl⟩

end Go.Proofs.Ytogopmngbjkcjau
