/- Lanes as what is appended, and in memory of the call's own that stays. No program in it but its table of types. -/
import Derived.Test.YtkicfiacnpifkadLaneRow
import Derived.Test.YtkicfiacnpifkadBox4Set
namespace Go.Proofs.Ytkicfiacnpifkad
open Go.RowKit
set_option linter.unusedVariables false

theorem lanes_nil {w : World} {a : Option Addr} {len : Nat} {l : List Lane} (hs : Lanes w a len l) : a = none → len = 0 := by
  intro h
  rcases hs.2.2 with h0 | ⟨b, off, e, _⟩
  · exact h0
  · rw [h] at e; cases e

theorem lanes_src {w : World} {a : Option Addr} {len : Nat} {l : List Lane} (hs : Lanes w a len l) : ∀ ad, a = some ad → ∀ j u, (laneCells l)[j]? = some u → w.cell? (ad.add j) = some u := by
  intro ad ha j u hj
  have hl2 : j < l.length * 2 := by
    by_cases h : j < l.length * 2
    · exact h
    · rw [List.getElem?_eq_none (by rw [laneCells_len]; omega)] at hj; cases hj
  rcases hs.2.2 with h | ⟨b, off, h, hlt, hc⟩
  · have := hs.1; omega
  · rw [ha] at h
    injection h with h
    subst h
    obtain ⟨i, e⟩ : ∃ i, j = i * 2 ∨ j = i * 2 + 1 := ⟨j / 2, by omega⟩
    rcases e with rfl | rfl
    · have hk : i < l.length := by omega
      rw [(laneCells_at l i hk).1] at hj
      rw [← hj, ← (hc i hk).1]
      by_cases hi0 : i = 0
      · subst hi0
        simp [Addr.add]
      · simp [Addr.add, show ¬ i * 2 = 0 by omega]
    · have hk : i < l.length := by omega
      rw [(laneCells_at l i hk).2] at hj
      rw [← hj, ← (hc i hk).2]
      simp [Addr.add, Nat.add_assoc]

theorem ownL_shape {w : World} {base size n : Nat} {e : TypeId} {v : Value} {xs : List Value} (h : w.ownsRow base e size v n xs) : ∃ a cap, v = .slice a n cap := by
  rcases h.2 with ⟨rfl, rfl⟩ | ⟨g, cap, cur, rfl, _⟩
  · exact ⟨_, _, rfl⟩
  · exact ⟨_, _, rfl⟩

theorem OwnL.low {w : World} {base b' n cap : Nat} {a : Option Addr} {l : List Lane} (h : OwnL w base a n cap l) (hb : b' ≤ base) : OwnL w b' a n cap l := ⟨own_low h.1 hb, h.2⟩

/-- A row of the call's own is as it was where another block is written. -/
theorem ownL_set {W : World} {base n cap b' k : Nat} {a : Option Addr} {l : List Lane} {v : Value} (h : OwnL W base a n cap l) (hne : a.map (·.block) ≠ some b') : OwnL (W.setCell ⟨b', k, none⟩ v) base a n cap l :=
  h.kept (grownBy_set W b' k v) fun i e => by injection e with e; rw [← e]; exact hne

/-- A row of lanes is not a variable of another type. -/
theorem OwnL.other {w : World} {base n cap b : Nat} {a : Option Addr} {l : List Lane} {cs : Array Value} {t : TypeId} {z : Nat × Nat} (h : OwnL w base a n cap l) (hb : w.heap[b]? = some (.cells cs t z)) (ht : t ≠ 47) : a.map (·.block) ≠ some b := by
  intro e
  rcases h.1.2 with ⟨he, _⟩ | ⟨g, cap', cur, he, _, hg, _⟩
  · injection he with e1 _ _
    subst e1
    cases e
  · injection he with e1 _ _
    subst e1
    injection e with e
    subst e
    rw [hb] at hg
    injection hg with hg
    injection hg with _ h2 _
    exact ht h2

/-- A variable of three cells is written, cell by cell. -/
theorem below_set3 {B : Nat} {w W : World} (h : Below B w W) {b : Nat} (hb : B ≤ b) (x y z : Value) : Below B w (((W.setCell ⟨b, 0, none⟩ x).setCell ⟨b, 1, none⟩ y).setCell ⟨b, 2, none⟩ z) :=
  ((h.setCell (p := ⟨b, 0, none⟩) hb _).setCell (p := ⟨b, 1, none⟩) hb _).setCell (p := ⟨b, 2, none⟩) hb _

theorem ownL_set3 {W : World} {base n cap b : Nat} {a : Option Addr} {l : List Lane} (h : OwnL W base a n cap l) (hne : a.map (·.block) ≠ some b) (x y z : Value) : OwnL (((W.setCell ⟨b, 0, none⟩ x).setCell ⟨b, 1, none⟩ y).setCell ⟨b, 2, none⟩ z) base a n cap l :=
  ownL_set (ownL_set (ownL_set h hne) hne) hne

end Go.Proofs.Ytkicfiacnpifkad
