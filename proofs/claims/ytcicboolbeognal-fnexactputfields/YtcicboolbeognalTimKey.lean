/- Maps whose keys are fields, or texts: how a key reads; the least number of each key, from a place on. -/
import Derived.Maps.Views
import Derived.Maps.Own
import Derived.Maps.OwnSet
import Derived.DeepKeys4
import Derived.Test.YtcicboolbeognalTabFit
import Derived.Test.YtcicboolbeognalTabOwn
namespace Go.Proofs.Ytcicboolbeognal
open Go.RowKit
set_option linter.unusedVariables false

theorem prog_laid : laidOutB Try.prog = true := by kernel_rfl

theorem field_keyed : Maps.Keyed Try.prog 44 := .of_law (deep_law_laid prog_laid (m := 3) (by omega) (of_decide_eq_true (by kernel_rfl)) (by kernel_rfl) (by kernel_rfl))

theorem text_keyed : Maps.Keyed Try.prog 9 := Maps.string_keyed Try.underlying9

/-- What a field reads as, as a key. -/
def litF (f : Fld) : Lit := .string (keyBytes [.string f.1.data.toList, .string f.2.data.toList])
def litT (x : ByteArray) : Lit := .string x.data.toList
abbrev fitsF (f : Fld) : Prop := f.1.size ≤ maxLen ∧ f.2.size ≤ maxLen

theorem key_field (f : Fld) (h : fitsF f) : keyOf Try.prog 44 (.agg #[.string f.1, .string f.2]) = some (litF f) := by
  have hk : Try.prog.keyType 44 = true := by kernel_rfl
  obtain ⟨n, hn⟩ : ∃ n, Try.prog.types.size + 1 = n + 2 := ⟨Try.prog.types.size - 1, by kernel_rfl⟩
  unfold keyOf
  rw [Try.underlying44, hn]
  have c2 : Try.prog.cellsOf 44 = 2 := by kernel_rfl
  have c1 : Try.prog.cellsOf 9 = 1 := by kernel_rfl
  simp [Program.keyLits, Try.underlying44, Try.underlying9, hk, h.1, h.2, Value.formed, Value.cells, c1, c2, litF]

theorem litF_inj {f g : Fld} (hf : fitsF f) (hg : fitsF g) (e : litF f = litF g) : f = g := by
  have h := field_keyed.inj (key_field f hf) (by rw [e]; exact key_field g hg)
  simp at h
  exact Prod.ext h.1 h.2

theorem litT_inj {x y : ByteArray} (e : litT x = litT y) : x = y := by
  have h : x.data.toList = y.data.toList := by
    have := e
    unfold litT at this
    injection this
  have h' : x.data = y.data := Array.toList_inj.1 h
  cases x; cases y; simp at h'; rw [h']

/-- The map D tells the least place of each key, plus 1, among those from j on. -/
def Num {κ : Type} (K : List κ) (lit : κ → Lit) (ok : κ → Prop) (j : Nat) (D : DataW Unit) : Prop := Maps.IsMap D ∧ ∀ x, ok x →
  (∃ i, j ≤ i ∧ K[i]? = some x ∧ (∀ i', j ≤ i' → i' < i → K[i']? ≠ some x) ∧ Maps.has D (lit x) = true ∧ ∀ z, D.atKey (lit x) z = .lit (.int .i64 ((i : Int) + 1))) ∨
  ((∀ i, j ≤ i → K[i]? ≠ some x) ∧ Maps.has D (lit x) = false ∧ ∀ z, D.atKey (lit x) z = z)

theorem Num.start {κ : Type} (K : List κ) (lit : κ → Lit) (ok : κ → Prop) : Num K lit ok K.length (.map []) := by
  refine ⟨Maps.isMap_empty, fun x hx => .inr ⟨fun i hi => ?_, rfl, fun z => rfl⟩⟩
  rw [List.getElem?_eq_none hi]
  simp

theorem Num.step {κ : Type} {K : List κ} {lit : κ → Lit} {ok : κ → Prop} {j : Nat} {D : DataW Unit} (h : Num K lit ok (j + 1) D) (y : κ) (hy : K[j]? = some y) (hk : WideAt.IsKeyLit (lit y)) (inj : ∀ x, ok x → lit x = lit y → x = y) :
    Num K lit ok j (D.put (lit y) (.lit (.int .i64 ((j : Int) + 1)))) := by
  refine ⟨h.1.put _ _, fun x hx => ?_⟩
  by_cases e : x = y
  · subst e
    exact .inl ⟨j, Nat.le_refl _, hy, fun i' h1 h2 => by omega, Maps.has_put_same h.1 hk _, fun z => Maps.atKey_put_same h.1 hk _ _⟩
  · have hne : lit x ≠ lit y := fun h => e (inj x hx h)
    rcases h.2 x hx with ⟨i, h1, h2, h3, h4, h5⟩ | ⟨h1, h2, h3⟩
    · refine .inl ⟨i, by omega, h2, fun i' g1 g2 => ?_, (Maps.has_put_other hne _).trans h4, fun z => (Maps.atKey_put_other hne _ _).trans (h5 z)⟩
      by_cases g : i' = j
      · rw [g, hy]
        intro c
        injection c with c
        exact e c.symm
      · exact h3 i' (by omega) g2
    · refine .inr ⟨fun i hi => ?_, (Maps.has_put_other hne _).trans h2, fun z => (Maps.atKey_put_other hne _ _).trans (h3 z)⟩
      by_cases g : i = j
      · rw [g, hy]
        intro c
        injection c with c
        exact e c.symm
      · exact h1 i (by omega)

end Go.Proofs.Ytcicboolbeognal
