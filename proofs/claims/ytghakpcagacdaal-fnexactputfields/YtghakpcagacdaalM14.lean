/- What FindField answers. No program in it. -/
import Derived.Test.YtghakpcagacdaalM13
import Derived.Lib.Strings
namespace Go.Proofs.Ytghakpcagacdaal
open Go.RowKit
set_option linter.unusedVariables false

/-- What FindField answers over all fields in the order of their numbers: the number, and whether the value is there, too. -/
def FindAns (L : List Fld) (f : Fld) (i : Int) (b : Bool) : Prop :=
  (b = true ∧ ∃ k : Nat, L[k]? = some f ∧ (∀ j : Nat, j < k → L[j]? ≠ some f) ∧ i = (k : Int) + 1) ∨
  (b = false ∧ (∀ j : Nat, L[j]? ≠ some f) ∧ ((∃ (k : Nat) (g : Fld), L[k]? = some g ∧ g.1 = f.1 ∧ (∀ (j : Nat) (g' : Fld), j < k → L[j]? = some g' → g'.1 ≠ f.1) ∧ i = (k : Int) + 1) ∨ ((∀ (j : Nat) (g' : Fld), L[j]? = some g' → g'.1 ≠ f.1) ∧ i = 0)))

theorem FindAns.one {L : List Fld} {f : Fld} {i j : Int} {b c : Bool} (h : FindAns L f i b) (g : FindAns L f j c) : i = j ∧ b = c := by
  rcases h with ⟨rfl, k, h1, h2, rfl⟩ | ⟨rfl, h0, h⟩ <;> rcases g with ⟨rfl, k', g1, g2, rfl⟩ | ⟨rfl, g0, g⟩
  · have : k = k' := by
      rcases Nat.lt_trichotomy k k' with hl | he | hg
      · exact absurd h1 (g2 k hl)
      · exact he
      · exact absurd g1 (h2 k' hg)
    exact ⟨by omega, rfl⟩
  · exact absurd h1 (g0 k)
  · exact absurd g1 (h0 k')
  · refine ⟨?_, rfl⟩
    rcases h with ⟨k, x, h1, h2, h3, rfl⟩ | ⟨h1, rfl⟩ <;> rcases g with ⟨k', x', g1, g2, g3, rfl⟩ | ⟨g1, rfl⟩
    · have : k = k' := by
        rcases Nat.lt_trichotomy k k' with hl | he | hg
        · exact absurd h2 (g3 k x hl h1)
        · exact he
        · exact absurd g2 (h3 k' x' hg g1)
      omega
    · exact absurd h2 (g1 k x h1)
    · exact absurd g2 (h1 k' x' g1)
    · rfl

/-- The name that was found among the first k. -/
def NameAt (L : List Fld) (f : Fld) (k : Nat) (n : Int) : Prop :=
  (n = 0 ∧ ∀ (j : Nat) (g : Fld), j < k → L[j]? = some g → g.1 ≠ f.1) ∨ (∃ (j : Nat) (g : Fld), j < k ∧ L[j]? = some g ∧ g.1 = f.1 ∧ (∀ (j' : Nat) (g' : Fld), j' < j → L[j']? = some g' → g'.1 ≠ f.1) ∧ n = (j : Int) + 1)

theorem bytes_inj {x y : ByteArray} (h : x.toList = y.toList) : x = y := by
  rw [Lib.toList_data, Lib.toList_data] at h
  cases x
  cases y
  simp at h
  rw [h]

theorem NameAt.hit {L : List Fld} {f g : Fld} {k : Nat} (h : NameAt L f k 0) (hg : L[k]? = some g) (he : g.1 = f.1) : NameAt L f (k + 1) ((k : Int) + 1) := by
  rcases h with ⟨_, h⟩ | ⟨j, _, _, _, _, _, h⟩
  · exact .inr ⟨k, g, Nat.lt_succ_self _, hg, he, h, rfl⟩
  · omega

theorem NameAt.keep {L : List Fld} {f : Fld} {k : Nat} {n : Int} (h : NameAt L f k n) (hn : n ≠ 0) : NameAt L f (k + 1) n := by
  rcases h with ⟨h0, _⟩ | ⟨j, g, hj, r⟩
  · exact absurd h0 hn
  · exact .inr ⟨j, g, by omega, r⟩

theorem NameAt.miss {L : List Fld} {f g : Fld} {k : Nat} {n : Int} (h : NameAt L f k n) (hg : L[k]? = some g) (he : g.1 ≠ f.1) : NameAt L f (k + 1) n := by
  rcases h with ⟨h0, h1⟩ | ⟨j, g', hj, r⟩
  · refine .inl ⟨h0, fun j g' hj hg' => ?_⟩
    by_cases e : j = k
    · subst e
      rw [hg] at hg'
      injection hg' with hg'
      subst hg'
      exact he
    · exact h1 j g' (by omega) hg'
  · exact .inr ⟨j, g', by omega, r⟩

theorem NameAt.done {L : List Fld} {f : Fld} {n : Int} (h : NameAt L f L.length n) (hno : ∀ j : Nat, j < L.length → L[j]? ≠ some f) : FindAns L f n false := by
  refine .inr ⟨rfl, ?_, ?_⟩
  · intro j
    by_cases hj : j < L.length
    · exact hno j hj
    · rw [List.getElem?_eq_none (by omega)]
      simp
  · rcases h with ⟨h0, h1⟩ | ⟨j, g, hj, h1, h2, h3, h4⟩
    · refine .inr ⟨fun j g' hg' => ?_, h0⟩
      exact h1 j g' (List.getElem?_eq_some_iff.1 hg').1 hg'
    · exact .inl ⟨j, g, h1, h2, h3, h4⟩

theorem no_next {L : List Fld} {f g : Fld} {k : Nat} (h : ∀ j, j < k → L[j]? ≠ some f) (hg : L[k]? = some g) (hne : g ≠ f) : ∀ j, j < k + 1 → L[j]? ≠ some f := by
  intro j hj
  by_cases e : j = k
  · subst e
    rw [hg]
    intro h
    injection h with h
    exact hne h
  · exact h j (by omega)

end Go.Proofs.Ytghakpcagacdaal
