/- A row of lanes cut in two; lanes as what is appended. No program in it but its table of types. -/
import Derived.Test.YtkicfiacnpifkadLaneSrc
import Derived.Deep.AppendSrc
namespace Go.Proofs.Ytkicfiacnpifkad
open Go.RowKit
set_option linter.unusedVariables false

theorem Lanes.take {w : World} {a : Option Addr} {n : Nat} {l : List Lane} (h : Lanes w a n l) {k : Nat} (hk : k ≤ n) : Lanes w a k (l.take k) := by
  obtain ⟨h1, h2, h3⟩ := h
  refine ⟨by simp; omega, fun s hs => h2 s (List.mem_of_mem_take hs), ?_⟩
  rcases h3 with h0 | ⟨b, off, ha, hlt, hc⟩
  · exact .inl (by omega)
  · by_cases hk0 : k = 0
    · exact .inl hk0
    · refine .inr ⟨b, off, ha, hlt, fun i hi => ?_⟩
      have hil : i < l.length := by simp at hi; omega
      rw [List.getElem_take]
      exact hc i hil

theorem Lanes.drop {w : World} {b off n : Nat} {l : List Lane} (h : Lanes w (some ⟨b, off, none⟩) n l) {k : Nat} (hk : k ≤ n) : Lanes w (some ⟨b, off + k * 2, none⟩) (n - k) (l.drop k) := by
  obtain ⟨h1, h2, h3⟩ := h
  refine ⟨by simp; omega, fun s hs => h2 s (List.mem_of_mem_drop hs), ?_⟩
  rcases h3 with h0 | ⟨b', off', ha, hlt, hc⟩
  · exact .inl (by omega)
  · injection ha with ha
    injection ha with e1 e2
    subst e1 e2
    refine .inr ⟨b, off + k * 2, rfl, hlt, fun i hi => ?_⟩
    have hil : k + i < l.length := by simp at hi; omega
    have := hc (k + i) hil
    rw [List.getElem_drop]
    rw [show off + k * 2 + i * 2 = off + (k + i) * 2 by omega]
    exact this

theorem Lanes.gone {w : World} {a : Option Addr} {n : Nat} {l : List Lane} (h : Lanes w a n l) {k : Nat} (hk : n ≤ k) : Lanes w a 0 (l.drop k) := by
  have : l.drop k = [] := List.drop_of_length_le (by have := h.1; omega)
  rw [this]
  exact ⟨rfl, by simp, .inl rfl⟩

/-- Lanes as what is appended. -/
theorem Lanes.src {w : World} {a : Option Addr} {n c : Nat} {l : List Lane} (h : Lanes w a n l) : Src Try.prog 2 34 (.slice a n c) n (laneCells l) w := by
  cases a with
  | none =>
    have h0 := lanes_nil h rfl
    subst h0
    have : l = [] := List.eq_nil_of_length_eq_zero h.1
    subst this
    exact Src.ofNil _ Try.underlying34 c
  | some ad => exact Src.ofSlice _ Try.underlying34 ad n c _ (by rw [laneCells_len, h.1]) (lanes_src h ad rfl) (laneCells_one l)

end Go.Proofs.Ytkicfiacnpifkad
