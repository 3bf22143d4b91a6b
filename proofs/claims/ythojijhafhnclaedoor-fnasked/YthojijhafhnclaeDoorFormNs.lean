/- Whether fields are those of a request, said as the program goes: no statement of the program; no condition. -/
import Derived.Test.YthojijhafhnclaeDoorTabs
import Derived.Test.YthojijhafhnclaeDoorOwn
import Derived.Lib.Strings
namespace Go.Proofs.YthojijhafhnclaeDoor
open Go.RowKit
set_option linter.unusedVariables false

/-- How many fields bear this name. -/
def cntF (nm : List UInt8) (xs : List Fld) : Nat := xs.countP fun f => f.1.toList == nm

/-- The value of the first of them; nothing, where there is none. -/
def valF (nm : List UInt8) : List Fld → ByteArray
  | [] => ⟨#[]⟩
  | f :: r => if f.1.toList == nm then f.2 else valF nm r

theorem cntF_next {nm : List UInt8} {xs : List Fld} {k : Nat} {x y : ByteArray} (h : xs[k]? = some (x, y)) : cntF nm (xs.take (k + 1)) = cntF nm (xs.take k) + (if x.toList == nm then 1 else 0) := by
  rw [cntF, cntF, List.take_add_one, h, List.countP_append]
  cases hb : x.toList == nm <;> simp [hb]

theorem cntF_le (nm : List UInt8) (xs : List Fld) : cntF nm xs ≤ xs.length := List.countP_le_length

theorem valF_some {nm : List UInt8} : ∀ {xs : List Fld} {k : Nat} {x y : ByteArray}, xs[k]? = some (x, y) → (x.toList == nm) = true → (∀ j x' y', j < k → xs[j]? = some (x', y') → (x'.toList == nm) = false) → valF nm xs = y
  | [], k, x, y, h, _, _ => by simp at h
  | f :: r, 0, x, y, h, hx, _ => by
    obtain rfl : f = (x, y) := by simpa using h
    rw [valF, if_pos hx]
  | f :: r, k + 1, x, y, h, hx, hn => by
    have h0 := hn 0 f.1 f.2 (by omega) (by simp)
    rw [valF, if_neg (by rw [h0]; simp)]
    exact valF_some (by simpa using h) hx fun j x' y' hj hjx => hn (j + 1) x' y' (by omega) (by simpa using hjx)

theorem valF_none {nm : List UInt8} : ∀ {xs : List Fld}, (∀ (j : Nat) (x' y' : ByteArray), xs[j]? = some (x', y') → (x'.toList == nm) = false) → valF nm xs = ⟨#[]⟩
  | [], _ => rfl
  | f :: r, hn => by
    have h0 := hn 0 f.1 f.2 (by simp)
    rw [valF, if_neg (by rw [h0]; simp)]
    exact valF_none fun j x' y' hjx => hn (j + 1) x' y' (by simpa using hjx)

end Go.Proofs.YthojijhafhnclaeDoor

namespace Go.Proofs.YthojijhafhnclaeDoor
open Go.RowKit
set_option linter.unusedVariables false

def bM : List UInt8 := [58, 109, 101, 116, 104, 111, 100]
def bS : List UInt8 := [58, 115, 99, 104, 101, 109, 101]
def bP : List UInt8 := [58, 112, 97, 116, 104]
def bA : List UInt8 := [58, 97, 117, 116, 104, 111, 114, 105, 116, 121]

/-- A capital. -/
def upC (b : UInt8) : Bool := decide (65 ≤ b.toNat) && decide (b.toNat ≤ 90)

/-- A name that begins with a colon. -/
def colB (x : List UInt8) : Bool := x.head? == some 58

/-- One of the four names. -/
def fourB (x : List UInt8) : Bool := x == bM || x == bS || x == bP || x == bA

/-- Whether one of the fields has a name without a colon ahead. -/
def plainF (ys : List Fld) : Bool := ys.any fun f => !colB f.1.toList

/-- Whether a name may stand behind these fields. -/
def okN (ys : List Fld) (x : List UInt8) : Bool := !x.isEmpty && x.all (fun b => !upC b) && (!colB x || (!plainF ys && fourB x && cntF x ys == 0))

def okL (xs : List Fld) : Prop := ∀ (k : Nat) (x y : ByteArray), xs[k]? = some (x, y) → okN (xs.take k) x.toList = true

/-- Whether fields are in order, and the first three there. -/
noncomputable def formB (xs : List Fld) : Bool := @decide (okL xs) (Classical.propDecidable _) && (cntF bM xs == 1 && cntF bS xs == 1 && cntF bP xs == 1)

theorem formB_bad {xs : List Fld} {k : Nat} {x y : ByteArray} (h : xs[k]? = some (x, y)) (hn : okN (xs.take k) x.toList = false) : formB xs = false := by
  have : ¬ okL xs := fun g => by have := g k x y h; rw [hn] at this; cases this
  rw [formB, Bool.and_eq_false_iff]
  exact .inl (by simp [this])

theorem formB_good {xs : List Fld} (h : okL xs) : formB xs = (cntF bM xs == 1 && cntF bS xs == 1 && cntF bP xs == 1) := by
  rw [formB]
  have : (@decide (okL xs) (Classical.propDecidable _)) = true := by simp [h]
  rw [this, Bool.true_and]

theorem plainF_next {xs : List Fld} {k : Nat} {x y : ByteArray} (h : xs[k]? = some (x, y)) : plainF (xs.take (k + 1)) = (plainF (xs.take k) || !colB x.toList) := by
  rw [plainF, plainF, List.take_add_one, h, List.any_append]
  simp

theorem Flds.take {w : World} {a : Option Addr} {n : Nat} {fs : List Fld} (h : Flds w a n fs) {k : Nat} (hk : k ≤ n) : Flds w a k (fs.take k) := by
  obtain ⟨h1, h2, h3⟩ := h
  refine ⟨by simp; omega, fun f hf => h2 f (List.mem_of_mem_take hf), ?_⟩
  rcases h3 with h0 | ⟨b, off, ha, hlt, hc⟩
  · exact .inl (by omega)
  · by_cases hk0 : k = 0
    · exact .inl hk0
    · refine .inr ⟨b, off, ha, hlt, fun i hi => ?_⟩
      have hil : i < fs.length := by simp at hi; omega
      rw [List.getElem_take]
      exact hc i hil

theorem bytes_list (x : ByteArray) : x.toList = x.data.toList := Lib.toList_data x

theorem list_empty {x : ByteArray} (h : x.size = 0) : x.toList = [] := by
  rw [bytes_list]
  exact List.eq_nil_of_length_eq_zero (by rw [Array.length_toList]; exact h)

theorem list_head {x : ByteArray} (h : 0 < x.size) : x.toList.head? = some (x[0]'h) := by
  rw [bytes_list, List.head?_eq_getElem?, List.getElem?_eq_getElem (by rw [Array.length_toList]; exact h), Array.getElem_toList]
  rfl

theorem list_some {x : ByteArray} (h : 0 < x.size) : x.toList.isEmpty = false := by
  have := list_head h
  cases hx : x.toList with
  | nil => rw [hx] at this; cases this
  | cons c r => rfl

theorem list_mem {x : ByteArray} {b : UInt8} (h : b ∈ x.toList) : ∃ k, ∃ hk : k < x.size, x[k] = b := by
  rw [bytes_list] at h
  obtain ⟨k, hk, rfl⟩ := List.mem_iff_getElem.1 h
  exact ⟨k, by rw [Array.length_toList] at hk; exact hk, by rw [Array.getElem_toList]; rfl⟩

theorem mem_list {x : ByteArray} {k : Nat} (hk : k < x.size) : x[k] ∈ x.toList := by
  rw [bytes_list]
  exact List.mem_iff_getElem.2 ⟨k, by rw [Array.length_toList]; exact hk, by rw [Array.getElem_toList]; rfl⟩

end Go.Proofs.YthojijhafhnclaeDoor

namespace Go.Proofs.YthojijhafhnclaeDoor
open Go.RowKit
set_option linter.unusedVariables false

/-- A name that a request may not have. -/
def wrongN (x : List UInt8) : Bool := x.any upC || (if colB x then !fourB x else x.isEmpty)

/-- A name that begins with a colon right behind one that does not. -/
def behP (xs : List Fld) : Prop := ∃ (i : Nat) (x y x' y' : ByteArray), xs[i]? = some (x, y) ∧ xs[i + 1]? = some (x', y') ∧ colB x.toList = false ∧ colB x'.toList = true

theorem cntF_take_le (nm : List UInt8) (xs : List Fld) (k : Nat) : cntF nm (xs.take k) ≤ cntF nm xs := by
  have h := congrArg (cntF nm) (List.take_append_drop k xs)
  rw [← h, cntF, cntF, List.countP_append]
  exact Nat.le_add_right _ _

theorem cntF_two (nm : List UInt8) (xs : List Fld) : ∀ n, 2 ≤ cntF nm (xs.take n) → ∃ (k : Nat) (x y : ByteArray), xs[k]? = some (x, y) ∧ x.toList = nm ∧ 1 ≤ cntF nm (xs.take k)
  | 0, h => by rw [List.take_zero] at h; exact absurd h (by show ¬ 2 ≤ 0; omega)
  | n + 1, h => by
    by_cases h2 : 2 ≤ cntF nm (xs.take n)
    · exact cntF_two nm xs n h2
    · cases hx : xs[n]? with
      | none =>
        have e : xs.take (n + 1) = xs.take n := by rw [List.take_add_one, hx]; simp
        rw [e] at h
        exact absurd h h2
      | some f =>
        have e := cntF_next (nm := nm) (x := f.1) (y := f.2) hx
        rw [e] at h
        cases hb : f.1.toList == nm
        · rw [hb] at h
          simp at h
          omega
        · rw [hb] at h
          simp at h
          exact ⟨n, f.1, f.2, hx, beq_iff_eq.1 hb, by omega⟩

theorem behind_of (xs : List Fld) (j : Nat) (f : Fld) (hj : xs[j]? = some f) (hc : colB f.1.toList = false) : ∀ (d : Nat) (x y : ByteArray), xs[j + d]? = some (x, y) → colB x.toList = true → behP xs
  | 0, x, y, h, hx => by
    rw [Nat.add_zero, hj] at h
    injection h with h
    rw [h, hx] at hc
    cases hc
  | d + 1, x, y, h, hx => by
    have hlt : j + d < xs.length := by have := (List.getElem?_eq_some_iff.1 h).1; omega
    cases hb : colB (xs[j + d]).1.toList
    · exact ⟨j + d, (xs[j + d]).1, (xs[j + d]).2, x, y, List.getElem?_eq_getElem hlt, h, hb, hx⟩
    · exact behind_of xs j f hj hc d _ _ (List.getElem?_eq_getElem hlt) hb

theorem colB_some {x : List UInt8} (h : colB x = true) : x.isEmpty = false := by
  cases x with
  | nil => cases h
  | cons c r => rfl

/-- The names one by one, the order, and how often the four are there. -/
theorem form_iff (xs : List Fld) : formB xs = true ↔ (∀ (k : Nat) (x y : ByteArray), xs[k]? = some (x, y) → wrongN x.toList = false) ∧ ¬ behP xs ∧ cntF bM xs = 1 ∧ cntF bS xs = 1 ∧ cntF bP xs = 1 ∧ cntF bA xs ≤ 1 := by
  rw [formB, Bool.and_eq_true, Bool.and_eq_true, Bool.and_eq_true, beq_iff_eq, beq_iff_eq, beq_iff_eq]
  have hd : (@decide (okL xs) (Classical.propDecidable _)) = true ↔ okL xs := by simp
  rw [hd]
  constructor
  · rintro ⟨hok, ⟨h1, h2⟩, h3⟩
    refine ⟨fun k x y hk => ?_, ?_, h1, h2, h3, ?_⟩
    · have h := hok k x y hk
      simp only [okN, Bool.and_eq_true, Bool.or_eq_true, Bool.not_eq_true'] at h
      obtain ⟨⟨he, hu⟩, hc⟩ := h
      have hu2 : x.toList.any upC = false := by
        rw [List.any_eq_false]
        intro c hc2
        have := List.all_eq_true.1 hu c hc2
        simpa using this
      rw [wrongN, hu2, Bool.false_or]
      cases hcl : colB x.toList
      · simpa using he
      · rw [hcl] at hc
        rcases hc with hc | hc
        · cases hc
        · simpa using hc.1.2
    · rintro ⟨i, x, y, x', y', hi, hi', hx, hx'⟩
      have h := hok (i + 1) x' y' hi'
      simp only [okN, Bool.and_eq_true, Bool.or_eq_true, Bool.not_eq_true', hx', Bool.true_eq_false, false_or, plainF] at h
      have := List.any_eq_false.1 h.2.1.1 (x, y) (by
        refine List.mem_of_getElem? (i := i) ?_
        rw [List.getElem?_take, if_pos (by omega)]
        exact hi)
      simp [hx] at this
    · refine Nat.le_of_not_lt fun h => ?_
      have h2 : 2 ≤ cntF bA (xs.take xs.length) := by rw [List.take_length]; exact h
      obtain ⟨k, x, y, hk, hx, hc⟩ := cntF_two bA xs _ h2
      have h := hok k x y hk
      simp only [okN, Bool.and_eq_true, Bool.or_eq_true, Bool.not_eq_true'] at h
      rcases h.2 with h | h
      · rw [hx] at h; exact absurd h (by decide)
      · have h3 := h.2
        rw [hx, beq_iff_eq] at h3
        omega
  · rintro ⟨hw, hb, h1, h2, h3, h4⟩
    refine ⟨fun k x y hk => ?_, ⟨h1, h2⟩, h3⟩
    have h := hw k x y hk
    rw [wrongN, Bool.or_eq_false_iff] at h
    have hall : x.toList.all (fun b => !upC b) = true := by
      rw [List.all_eq_true]
      intro c hc
      have := List.any_eq_false.1 h.1 c hc
      simpa using this
    rw [okN, hall, Bool.and_true]
    cases hcl : colB x.toList
    · have h5 := h.2
      rw [hcl, if_neg (by simp)] at h5
      rw [h5]
      rfl
    · have h5 := h.2
      rw [hcl, if_pos rfl] at h5
      have hfo : fourB x.toList = true := by simpa using h5
      have hpl : plainF (xs.take k) = false := by
        rw [plainF, List.any_eq_false]
        intro f hf hcf
        obtain ⟨j, hj, e⟩ := List.mem_iff_getElem.1 hf
        have hjk : j < k := by rw [List.length_take] at hj; omega
        have hjx : xs[j]? = some f := by
          have := List.getElem?_eq_getElem hj
          rw [e, List.getElem?_take, if_pos hjk] at this
          exact this
        refine hb (behind_of xs j f hjx (by simpa using hcf) (k - j) x y ?_ hcl)
        rw [show j + (k - j) = k by omega]
        exact hk
      have hone : cntF x.toList xs ≤ 1 := by
        rw [fourB, Bool.or_eq_true, Bool.or_eq_true, Bool.or_eq_true, beq_iff_eq, beq_iff_eq, beq_iff_eq, beq_iff_eq] at hfo
        rcases hfo with ((e | e) | e) | e <;> rw [e] <;> omega
      have hcn : cntF x.toList (xs.take k) = 0 := by
        have e := cntF_next (nm := x.toList) hk
        rw [beq_self_eq_true, if_pos rfl] at e
        have := cntF_take_le x.toList xs (k + 1)
        omega
      rw [colB_some hcl, hpl, hfo, hcn]
      rfl

end Go.Proofs.YthojijhafhnclaeDoor
