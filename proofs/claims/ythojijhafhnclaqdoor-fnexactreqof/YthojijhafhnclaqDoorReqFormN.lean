/- Whether fields are in order, and the first three there: no statement of the program; no condition. -/
import Derived.Test.YthojijhafhnclaqDoorReqCnt
namespace Go.Proofs.YthojijhafhnclaqDoor
open Go.RowKit
set_option linter.unusedVariables false

def bM : List UInt8 := [58, 109, 101, 116, 104, 111, 100]
def bS : List UInt8 := [58, 115, 99, 104, 101, 109, 101]
def bP : List UInt8 := [58, 112, 97, 116, 104]
def bA : List UInt8 := [58, 97, 117, 116, 104, 111, 114, 105, 116, 121]

/-- A capital. -/
def upC (b : UInt8) : Bool := decide (65 ≤ b.toNat) && decide (b.toNat ≤ 90)

/-- A name that begins with a colon. -/
def colB (x : List UInt8) : Bool := x.head? == some 58

/-- One of the four names. -/
def fourB (x : List UInt8) : Bool := x == bM || x == bS || x == bP || x == bA

/-- Whether one of the fields has a name without a colon ahead. -/
def plainF (ys : List Fld) : Bool := ys.any fun f => !colB f.1.toList

/-- Whether a name may stand behind these fields. -/
def okN (ys : List Fld) (x : List UInt8) : Bool := !x.isEmpty && x.all (fun b => !upC b) && (!colB x || (!plainF ys && fourB x && cntF x ys == 0))

def okL (xs : List Fld) : Prop := ∀ (k : Nat) (x y : ByteArray), xs[k]? = some (x, y) → okN (xs.take k) x.toList = true

/-- Whether fields are in order, and the first three there. -/
noncomputable def formB (xs : List Fld) : Bool := @decide (okL xs) (Classical.propDecidable _) && (cntF bM xs == 1 && cntF bS xs == 1 && cntF bP xs == 1)

theorem formB_bad {xs : List Fld} {k : Nat} {x y : ByteArray} (h : xs[k]? = some (x, y)) (hn : okN (xs.take k) x.toList = false) : formB xs = false := by
  have : ¬ okL xs := fun g => by have := g k x y h; rw [hn] at this; cases this
  rw [formB, Bool.and_eq_false_iff]
  exact .inl (by simp [this])

theorem formB_good {xs : List Fld} (h : okL xs) : formB xs = (cntF bM xs == 1 && cntF bS xs == 1 && cntF bP xs == 1) := by
  rw [formB]
  have : (@decide (okL xs) (Classical.propDecidable _)) = true := by simp [h]
  rw [this, Bool.true_and]

theorem plainF_next {xs : List Fld} {k : Nat} {x y : ByteArray} (h : xs[k]? = some (x, y)) : plainF (xs.take (k + 1)) = (plainF (xs.take k) || !colB x.toList) := by
  rw [plainF, plainF, List.take_add_one, h, List.any_append]
  simp

theorem Flds.take {w : World} {a : Option Addr} {n : Nat} {fs : List Fld} (h : Flds w a n fs) {k : Nat} (hk : k ≤ n) : Flds w a k (fs.take k) := by
  obtain ⟨h1, h2, h3⟩ := h
  refine ⟨by simp; omega, fun f hf => h2 f (List.mem_of_mem_take hf), ?_⟩
  rcases h3 with h0 | ⟨b, off, ha, hlt, hc⟩
  · exact .inl (by omega)
  · by_cases hk0 : k = 0
    · exact .inl hk0
    · refine .inr ⟨b, off, ha, hlt, fun i hi => ?_⟩
      have hil : i < fs.length := by simp at hi; omega
      rw [List.getElem_take]
      exact hc i hil

theorem bytes_list (x : ByteArray) : x.toList = x.data.toList := Lib.toList_data x

theorem list_empty {x : ByteArray} (h : x.size = 0) : x.toList = [] := by
  rw [bytes_list]
  exact List.eq_nil_of_length_eq_zero (by rw [Array.length_toList]; exact h)

theorem list_head {x : ByteArray} (h : 0 < x.size) : x.toList.head? = some (x[0]'h) := by
  rw [bytes_list, List.head?_eq_getElem?, List.getElem?_eq_getElem (by rw [Array.length_toList]; exact h), Array.getElem_toList]
  rfl

theorem list_some {x : ByteArray} (h : 0 < x.size) : x.toList.isEmpty = false := by
  have := list_head h
  cases hx : x.toList with
  | nil => rw [hx] at this; cases this
  | cons c r => rfl

theorem list_mem {x : ByteArray} {b : UInt8} (h : b ∈ x.toList) : ∃ k, ∃ hk : k < x.size, x[k] = b := by
  rw [bytes_list] at h
  obtain ⟨k, hk, rfl⟩ := List.mem_iff_getElem.1 h
  exact ⟨k, by rw [Array.length_toList] at hk; exact hk, by rw [Array.getElem_toList]; rfl⟩

theorem mem_list {x : ByteArray} {k : Nat} (hk : k < x.size) : x[k] ∈ x.toList := by
  rw [bytes_list]
  exact List.mem_iff_getElem.2 ⟨k, by rw [Array.length_toList]; exact hk, by rw [Array.getElem_toList]; rfl⟩

end Go.Proofs.YthojijhafhnclaqDoor
