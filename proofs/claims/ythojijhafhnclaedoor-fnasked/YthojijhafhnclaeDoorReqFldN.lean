/- The fields of a request: no statement of the program; no condition. -/
import Derived.Test.YthojijhafhnclaeDoorTabs
import Derived.Test.YthojijhafhnclaeDoorMethNs
import Derived.Lib.Strings
import Derived.Lib.ItoaMem
namespace Go.Proofs.YthojijhafhnclaeDoor
open Go.RowKit
set_option linter.unusedVariables false

/-- The fields that each request has. -/
def threeF (op : Int) (s : ByteArray) : List Fld := [(⟨#[58, 109, 101, 116, 104, 111, 100]⟩, methT op), (⟨#[58, 115, 99, 104, 101, 109, 101]⟩, ⟨#[104, 116, 116, 112, 115]⟩), (⟨#[58, 112, 97, 116, 104]⟩, ⟨#[47, 117, 112, 47]⟩ ++ s)]

/-- The field of its number. -/
def numF (op n : Int) : List Fld := if (nameT op).toList = [] then [] else [(nameT op, ⟨(Lib.decDigits n.toNat).toArray⟩)]

/-- The fields of a request. -/
def fieldsR (op : Int) (s : ByteArray) (n : Int) : List Fld := if reqB op s.data.toList n = true then threeF op s ++ numF op n else []

theorem methT_size (op : Int) : (methT op).size ≤ 6 := by
  unfold methT
  repeat' split
  all_goals decide

theorem nameT_size (op : Int) : (nameT op).size ≤ 13 := by
  unfold nameT
  repeat' split
  all_goals decide

theorem reqB_id {op n : Int} {s : ByteArray} (h : reqB op s.data.toList n = true) : s.size ≤ 8 ∧ (1 ≤ op ∧ op ≤ 6) ∧ ((nameT op).toList ≠ [] → 0 ≤ n ∧ n ≤ 4294967295) := by
  simp only [reqB, Bool.and_eq_true, decide_eq_true_eq, idB] at h
  obtain ⟨⟨h1, _, h2⟩, h3⟩ := h
  rw [Array.length_toList] at h2
  refine ⟨h2.2, h1, fun hn => ?_⟩
  have hop : op = 1 ∨ op = 3 ∨ op = 4 := by
    by_cases e1 : op = 1
    · exact .inl e1
    by_cases e3 : op = 3
    · exact .inr (.inl e3)
    by_cases e4 : op = 4
    · exact .inr (.inr e4)
    exfalso
    apply hn
    rw [nameT, if_neg e1, if_neg e3, if_neg e4, Lib.toList_data]
  rcases hop with rfl | rfl | rfl
  · have e : mostR 1 = 1000000000 := by decide
    rw [e] at h3
    simp at h3
    omega
  · have e : mostR 3 = 1000000000 := by decide
    rw [e] at h3
    simp at h3
    omega
  · have e : mostR 4 = 4294967295 := by decide
    rw [e] at h3
    simp at h3
    omega

theorem fieldsR_len (op : Int) (s : ByteArray) (n : Int) : (fieldsR op s n).length ≤ 4 := by
  unfold fieldsR
  split
  · rw [List.length_append]
    have h1 : (threeF op s).length = 3 := rfl
    have h2 : (numF op n).length ≤ 1 := by
      unfold numF
      split <;> simp
    omega
  · simp

end Go.Proofs.YthojijhafhnclaeDoor
