/- An answer that is a disk: its rows lie in memory from base on, and apart. No program in it. -/
import Derived.Test.YtogopmngbjkcjauDskBlk
import Derived.Deep.AppendSrc
namespace Go.Proofs.Ytogopmngbjkcjau
open Go.RowKit
set_option linter.unusedVariables false

def AnsD (base : Nat) (X Y : List ByteArray) (v : Value) (w' : World) : Prop :=
  ∃ A C A' C', v = .agg #[.slice A X.length C, .slice A' Y.length C'] ∧ OwnSt w' base (.slice A X.length C) X.length X ∧ OwnSt w' base (.slice A' Y.length C') Y.length Y ∧ ∀ q, A.map (·.block) = some q → A'.map (·.block) ≠ some q

theorem AnsD.mk' {base : Nat} {X Y : List ByteArray} {w' : World} {A A' : Option Addr} {n C n' C' : Nat} (hn : X.length = n) (hn' : Y.length = n') (h1 : OwnSt w' base (.slice A n C) n X) (h2 : OwnSt w' base (.slice A' n' C') n' Y) (hne : ∀ q, A.map (·.block) = some q → A'.map (·.block) ≠ some q) : AnsD base X Y (.agg #[.slice A n C, .slice A' n' C']) w' := by
  subst hn hn'
  exact ⟨A, C, A', C', rfl, h1, h2, hne⟩

/-- Texts as what is appended. -/
theorem Strs.src {w : World} {a : Option Addr} {n c : Nat} {l : List ByteArray} (h : Strs w a n l) : Src Try.prog 1 22 (.slice a n c) n (scells l) w := by
  cases a with
  | none =>
    have h0 := h.none_nil rfl
    subst h0
    have : l = [] := List.eq_nil_of_length_eq_zero h.1
    subst this
    exact Src.ofNil _ Try.underlying22 c
  | some ad => exact Src.ofSlice _ Try.underlying22 ad n c _ (by rw [scells_len, h.1, Nat.mul_one]) (h.cells ad rfl) (scells_one l)

theorem cellD_kept {Y : World} {b b' i k : Nat} {v u : Value} (hne : b ≠ b') (h : Y.cell? ⟨b, i, none⟩ = some v) : (Y.setCell ⟨b', k, none⟩ u).cell? ⟨b, i, none⟩ = some v := by
  have e := set_block_ne Y b b' k u hne
  simp only [World.cell?] at h ⊢
  rw [e]
  exact h

end Go.Proofs.Ytogopmngbjkcjau
