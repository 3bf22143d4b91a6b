/- Whether fields are those of a request, said as the program goes: no statement of the program; no condition. -/
import Derived.Test.YthojijhafhnclaqDoorReqFormN
namespace Go.Proofs.YthojijhafhnclaqDoor
open Go.RowKit
set_option linter.unusedVariables false

/-- A name that a request may not have. -/
def wrongN (x : List UInt8) : Bool := x.any upC || (if colB x then !fourB x else x.isEmpty)

/-- A name that begins with a colon right behind one that does not. -/
def behP (xs : List Fld) : Prop := ∃ (i : Nat) (x y x' y' : ByteArray), xs[i]? = some (x, y) ∧ xs[i + 1]? = some (x', y') ∧ colB x.toList = false ∧ colB x'.toList = true

theorem cntF_take_le (nm : List UInt8) (xs : List Fld) (k : Nat) : cntF nm (xs.take k) ≤ cntF nm xs := by
  have h := congrArg (cntF nm) (List.take_append_drop k xs)
  rw [← h, cntF, cntF, List.countP_append]
  exact Nat.le_add_right _ _

theorem cntF_two (nm : List UInt8) (xs : List Fld) : ∀ n, 2 ≤ cntF nm (xs.take n) → ∃ (k : Nat) (x y : ByteArray), xs[k]? = some (x, y) ∧ x.toList = nm ∧ 1 ≤ cntF nm (xs.take k)
  | 0, h => by rw [List.take_zero] at h; exact absurd h (by show ¬ 2 ≤ 0; omega)
  | n + 1, h => by
    by_cases h2 : 2 ≤ cntF nm (xs.take n)
    · exact cntF_two nm xs n h2
    · cases hx : xs[n]? with
      | none =>
        have e : xs.take (n + 1) = xs.take n := by rw [List.take_add_one, hx]; simp
        rw [e] at h
        exact absurd h h2
      | some f =>
        have e := cntF_next (nm := nm) (x := f.1) (y := f.2) hx
        rw [e] at h
        cases hb : f.1.toList == nm
        · rw [hb] at h
          simp at h
          omega
        · rw [hb] at h
          simp at h
          exact ⟨n, f.1, f.2, hx, beq_iff_eq.1 hb, by omega⟩

theorem behind_of (xs : List Fld) (j : Nat) (f : Fld) (hj : xs[j]? = some f) (hc : colB f.1.toList = false) : ∀ (d : Nat) (x y : ByteArray), xs[j + d]? = some (x, y) → colB x.toList = true → behP xs
  | 0, x, y, h, hx => by
    rw [Nat.add_zero, hj] at h
    injection h with h
    rw [h, hx] at hc
    cases hc
  | d + 1, x, y, h, hx => by
    have hlt : j + d < xs.length := by have := (List.getElem?_eq_some_iff.1 h).1; omega
    cases hb : colB (xs[j + d]).1.toList
    · exact ⟨j + d, (xs[j + d]).1, (xs[j + d]).2, x, y, List.getElem?_eq_getElem hlt, h, hb, hx⟩
    · exact behind_of xs j f hj hc d _ _ (List.getElem?_eq_getElem hlt) hb

theorem colB_some {x : List UInt8} (h : colB x = true) : x.isEmpty = false := by
  cases x with
  | nil => cases h
  | cons c r => rfl

/-- The names one by one, the order, and how often the four are there. -/
theorem form_iff (xs : List Fld) : formB xs = true ↔ (∀ (k : Nat) (x y : ByteArray), xs[k]? = some (x, y) → wrongN x.toList = false) ∧ ¬ behP xs ∧ cntF bM xs = 1 ∧ cntF bS xs = 1 ∧ cntF bP xs = 1 ∧ cntF bA xs ≤ 1 := by
  rw [formB, Bool.and_eq_true, Bool.and_eq_true, Bool.and_eq_true, beq_iff_eq, beq_iff_eq, beq_iff_eq]
  have hd : (@decide (okL xs) (Classical.propDecidable _)) = true ↔ okL xs := by simp
  rw [hd]
  constructor
  · rintro ⟨hok, ⟨h1, h2⟩, h3⟩
    refine ⟨fun k x y hk => ?_, ?_, h1, h2, h3, ?_⟩
    · have h := hok k x y hk
      simp only [okN, Bool.and_eq_true, Bool.or_eq_true, Bool.not_eq_true'] at h
      obtain ⟨⟨he, hu⟩, hc⟩ := h
      have hu2 : x.toList.any upC = false := by
        rw [List.any_eq_false]
        intro c hc2
        have := List.all_eq_true.1 hu c hc2
        simpa using this
      rw [wrongN, hu2, Bool.false_or]
      cases hcl : colB x.toList
      · simpa using he
      · rw [hcl] at hc
        rcases hc with hc | hc
        · cases hc
        · simpa using hc.1.2
    · rintro ⟨i, x, y, x', y', hi, hi', hx, hx'⟩
      have h := hok (i + 1) x' y' hi'
      simp only [okN, Bool.and_eq_true, Bool.or_eq_true, Bool.not_eq_true', hx', Bool.true_eq_false, false_or, plainF] at h
      have := List.any_eq_false.1 h.2.1.1 (x, y) (by
        refine List.mem_of_getElem? (i := i) ?_
        rw [List.getElem?_take, if_pos (by omega)]
        exact hi)
      simp [hx] at this
    · refine Nat.le_of_not_lt fun h => ?_
      have h2 : 2 ≤ cntF bA (xs.take xs.length) := by rw [List.take_length]; exact h
      obtain ⟨k, x, y, hk, hx, hc⟩ := cntF_two bA xs _ h2
      have h := hok k x y hk
      simp only [okN, Bool.and_eq_true, Bool.or_eq_true, Bool.not_eq_true'] at h
      rcases h.2 with h | h
      · rw [hx] at h; exact absurd h (by decide)
      · have h3 := h.2
        rw [hx, beq_iff_eq] at h3
        omega
  · rintro ⟨hw, hb, h1, h2, h3, h4⟩
    refine ⟨fun k x y hk => ?_, ⟨h1, h2⟩, h3⟩
    have h := hw k x y hk
    rw [wrongN, Bool.or_eq_false_iff] at h
    have hall : x.toList.all (fun b => !upC b) = true := by
      rw [List.all_eq_true]
      intro c hc
      have := List.any_eq_false.1 h.1 c hc
      simpa using this
    rw [okN, hall, Bool.and_true]
    cases hcl : colB x.toList
    · have h5 := h.2
      rw [hcl, if_neg (by simp)] at h5
      rw [h5]
      rfl
    · have h5 := h.2
      rw [hcl, if_pos rfl] at h5
      have hfo : fourB x.toList = true := by simpa using h5
      have hpl : plainF (xs.take k) = false := by
        rw [plainF, List.any_eq_false]
        intro f hf hcf
        obtain ⟨j, hj, e⟩ := List.mem_iff_getElem.1 hf
        have hjk : j < k := by rw [List.length_take] at hj; omega
        have hjx : xs[j]? = some f := by
          have := List.getElem?_eq_getElem hj
          rw [e, List.getElem?_take, if_pos hjk] at this
          exact this
        refine hb (behind_of xs j f hjx (by simpa using hcf) (k - j) x y ?_ hcl)
        rw [show j + (k - j) = k by omega]
        exact hk
      have hone : cntF x.toList xs ≤ 1 := by
        rw [fourB, Bool.or_eq_true, Bool.or_eq_true, Bool.or_eq_true, beq_iff_eq, beq_iff_eq, beq_iff_eq, beq_iff_eq] at hfo
        rcases hfo with ((e | e) | e) | e <;> rw [e] <;> omega
      have hcn : cntF x.toList (xs.take k) = 0 := by
        have e := cntF_next (nm := x.toList) hk
        rw [beq_self_eq_true, if_pos rfl] at e
        have := cntF_take_le x.toList xs (k + 1)
        omega
      rw [colB_some hcl, hpl, hfo, hcn]
      rfl

end Go.Proofs.YthojijhafhnclaqDoor
