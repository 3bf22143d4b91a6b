/- From what the row lists of the program's error to the cell that holds it. Fields: a name and a value; rows of fields in memory; the first fields. No program in it. How many fields bear a name, and the value of the first: no statement of the program; no condition. Whether fields are in order, and the first three there: no statement of the program; no condition. Plain facts on the digits of numbers; no program in it. Numbers as texts of up to ten digits, and what a reader with a bound answers: no statement of the program; no condition. A method, and the name of an op's number: no statement of the program; no condition. The request that fields are, or a fault: no statement of the program; no condition. -/
import Derived.Test.YtemcjenpgdieoaaGreatDoorM23
import Derived.FnData
import Derived.Test.YtemcjenpgdieoaaGreatDoorM01
import Derived.Lib.Strings
import Derived.Lib.ItoaNum
import Derived.Lib.ItoaMem
import Derived.Lib.AtoiAll
import Derived.Test.YtemcjenpgdieoaaGreatDoorM10
namespace Go.Proofs.YtemcjenpgdieoaaGreatDoor
open Go.RowKit
set_option linter.unusedVariables false

theorem errG : Tryz.prog.globalNamed "loop.example/g00199/impl.errNoFit" = some 2 := by kernel_rfl

theorem errN_of_var {W : World} (h : ∃ t p, W.var? Tryz.prog "loop.example/g00199/impl.errNoFit" = some #[.iface t p]) : ErrN W := by
  obtain ⟨t, p, h⟩ := h
  have c := World.var?_cell errG h 0
  have c' : W.cell? ⟨2, 0, none⟩ = some (.iface t p) := by rw [c]; rfl
  refine ⟨?_, t, p, c'⟩
  rw [World.var?, errG] at h
  cases hg : W.heap[(2 : Nat)]? with
  | none => simp [hg] at h
  | some o => exact (Array.getElem?_eq_some_iff.1 hg).1

end Go.Proofs.YtemcjenpgdieoaaGreatDoor

namespace Go.Proofs.YtemcjenpgdieoaaGreatDoor
open Go.RowKit
set_option linter.unusedVariables false

abbrev Fld := ByteArray × ByteArray

/-- The cells of a row of fields. -/
def fieldCells (fs : List Fld) : List Value := fs.flatMap fun f => [.string f.1, .string f.2]

theorem fieldCells_len (fs : List Fld) : (fieldCells fs).length = 2 * fs.length := by
  induction fs with
  | nil => rfl
  | cons f fs ih => simp only [fieldCells, List.flatMap_cons, List.length_append, List.length_cons, List.length_nil] at ih ⊢; omega

theorem fieldCells_at (fs : List Fld) : ∀ i (hi : i < fs.length), (fieldCells fs)[2 * i]? = some (.string (fs[i]).1) ∧ (fieldCells fs)[2 * i + 1]? = some (.string (fs[i]).2) := by
  induction fs with
  | nil => intro i hi; simp at hi
  | cons f fs ih =>
    intro i hi
    have e : fieldCells (f :: fs) = .string f.1 :: .string f.2 :: fieldCells fs := rfl
    rw [e]
    cases i with
    | zero => simp
    | succ i =>
      have h2 : 2 * (i + 1) = 2 * i + 1 + 1 := by omega
      have := ih i (by simpa using hi)
      rw [h2]
      simpa using this

/-- The slice (a, n) holds the fields fs in the world w. -/
def Flds (w : World) (a : Option Addr) (n : Nat) (fs : List Fld) : Prop :=
  fs.length = n ∧ (∀ f ∈ fs, f.1.size ≤ maxLen ∧ f.2.size ≤ maxLen) ∧
  (n = 0 ∨ ∃ b off, a = some ⟨b, off, none⟩ ∧ b < w.heap.size ∧ ∀ i (hi : i < fs.length), w.cell? ⟨b, off + i * 2, none⟩ = some (.string (fs[i]).1) ∧ w.cell? ⟨b, off + i * 2 + 1, none⟩ = some (.string (fs[i]).2))

theorem Flds.below {w w' : World} {a : Option Addr} {n : Nat} {fs : List Fld} (h : Flds w a n fs) (hb : Below w.heap.size w w') : Flds w' a n fs := by
  obtain ⟨h1, h2, h3⟩ := h
  refine ⟨h1, h2, ?_⟩
  rcases h3 with h0 | ⟨b, off, ha, hlt, hc⟩
  · exact .inl h0
  · exact .inr ⟨b, off, ha, Nat.lt_of_lt_of_le hlt hb.size, fun i hi => ⟨(hb.cell (p := ⟨b, off + i * 2, none⟩) hlt).trans (hc i hi).1, (hb.cell (p := ⟨b, off + i * 2 + 1, none⟩) hlt).trans (hc i hi).2⟩⟩

/-- A row of fields from its block. -/
theorem Flds.ofRow {w : World} {g : Nat} {t : TypeId} {fs : List Fld} (h : w.heap[g]? = some (.cells (fieldCells fs).toArray t (0, 0))) (hs : ∀ f ∈ fs, f.1.size ≤ maxLen ∧ f.2.size ≤ maxLen) : Flds w (some ⟨g, 0, none⟩) fs.length fs := by
  refine ⟨rfl, hs, .inr ⟨g, 0, rfl, (Array.getElem?_eq_some_iff.1 h).1, fun i hi => ?_⟩⟩
  have := fieldCells_at fs i hi
  rw [Nat.mul_comm 2 i] at this
  rw [cell_of_row w g _ _ t (0, 0) h, cell_of_row w g _ _ t (0, 0) h, Nat.zero_add]
  simpa using this

/-- The cells at one index. -/
theorem Flds.at {w : World} {a : Option Addr} {n : Nat} {fs : List Fld} (h : Flds w a n fs) {k : Nat} (hk : k < n) : ∃ b off x y, a = some ⟨b, off, none⟩ ∧ b < w.heap.size ∧ fs[k]? = some (x, y) ∧ w.cell? ⟨b, off + k * 2, none⟩ = some (.string x) ∧ w.cell? ⟨b, off + k * 2 + 1, none⟩ = some (.string y) := by
  obtain ⟨h1, h2, h3⟩ := h
  rcases h3 with h0 | ⟨b, off, ha, hlt, hc⟩
  · omega
  · have hk' : k < fs.length := by omega
    exact ⟨b, off, (fs[k]).1, (fs[k]).2, ha, hlt, List.getElem?_eq_getElem hk', (hc k hk').1, (hc k hk').2⟩

/-- The first fields. -/
def firstL : List Fld := [
  (⟨#[58, 97, 117, 116, 104, 111, 114, 105, 116, 121]⟩, ⟨#[]⟩),
  (⟨#[58, 109, 101, 116, 104, 111, 100]⟩, ⟨#[71, 69, 84]⟩),
  (⟨#[58, 109, 101, 116, 104, 111, 100]⟩, ⟨#[80, 79, 83, 84]⟩),
  (⟨#[58, 112, 97, 116, 104]⟩, ⟨#[47]⟩),
  (⟨#[58, 112, 97, 116, 104]⟩, ⟨#[47, 105, 110, 100, 101, 120, 46, 104, 116, 109, 108]⟩),
  (⟨#[58, 115, 99, 104, 101, 109, 101]⟩, ⟨#[104, 116, 116, 112]⟩),
  (⟨#[58, 115, 99, 104, 101, 109, 101]⟩, ⟨#[104, 116, 116, 112, 115]⟩),
  (⟨#[58, 115, 116, 97, 116, 117, 115]⟩, ⟨#[50, 48, 48]⟩),
  (⟨#[58, 115, 116, 97, 116, 117, 115]⟩, ⟨#[50, 48, 52]⟩),
  (⟨#[58, 115, 116, 97, 116, 117, 115]⟩, ⟨#[50, 48, 54]⟩),
  (⟨#[58, 115, 116, 97, 116, 117, 115]⟩, ⟨#[51, 48, 52]⟩),
  (⟨#[58, 115, 116, 97, 116, 117, 115]⟩, ⟨#[52, 48, 48]⟩),
  (⟨#[58, 115, 116, 97, 116, 117, 115]⟩, ⟨#[52, 48, 52]⟩),
  (⟨#[58, 115, 116, 97, 116, 117, 115]⟩, ⟨#[53, 48, 48]⟩),
  (⟨#[97, 99, 99, 101, 112, 116, 45, 99, 104, 97, 114, 115, 101, 116]⟩, ⟨#[]⟩),
  (⟨#[97, 99, 99, 101, 112, 116, 45, 101, 110, 99, 111, 100, 105, 110, 103]⟩, ⟨#[103, 122, 105, 112, 44, 32, 100, 101, 102, 108, 97, 116, 101]⟩),
  (⟨#[97, 99, 99, 101, 112, 116, 45, 108, 97, 110, 103, 117, 97, 103, 101]⟩, ⟨#[]⟩),
  (⟨#[97, 99, 99, 101, 112, 116, 45, 114, 97, 110, 103, 101, 115]⟩, ⟨#[]⟩),
  (⟨#[97, 99, 99, 101, 112, 116]⟩, ⟨#[]⟩),
  (⟨#[97, 99, 99, 101, 115, 115, 45, 99, 111, 110, 116, 114, 111, 108, 45, 97, 108, 108, 111, 119, 45, 111, 114, 105, 103, 105, 110]⟩, ⟨#[]⟩),
  (⟨#[97, 103, 101]⟩, ⟨#[]⟩),
  (⟨#[97, 108, 108, 111, 119]⟩, ⟨#[]⟩),
  (⟨#[97, 117, 116, 104, 111, 114, 105, 122, 97, 116, 105, 111, 110]⟩, ⟨#[]⟩),
  (⟨#[99, 97, 99, 104, 101, 45, 99, 111, 110, 116, 114, 111, 108]⟩, ⟨#[]⟩),
  (⟨#[99, 111, 110, 116, 101, 110, 116, 45, 100, 105, 115, 112, 111, 115, 105, 116, 105, 111, 110]⟩, ⟨#[]⟩),
  (⟨#[99, 111, 110, 116, 101, 110, 116, 45, 101, 110, 99, 111, 100, 105, 110, 103]⟩, ⟨#[]⟩),
  (⟨#[99, 111, 110, 116, 101, 110, 116, 45, 108, 97, 110, 103, 117, 97, 103, 101]⟩, ⟨#[]⟩),
  (⟨#[99, 111, 110, 116, 101, 110, 116, 45, 108, 101, 110, 103, 116, 104]⟩, ⟨#[]⟩),
  (⟨#[99, 111, 110, 116, 101, 110, 116, 45, 108, 111, 99, 97, 116, 105, 111, 110]⟩, ⟨#[]⟩),
  (⟨#[99, 111, 110, 116, 101, 110, 116, 45, 114, 97, 110, 103, 101]⟩, ⟨#[]⟩),
  (⟨#[99, 111, 110, 116, 101, 110, 116, 45, 116, 121, 112, 101]⟩, ⟨#[]⟩),
  (⟨#[99, 111, 111, 107, 105, 101]⟩, ⟨#[]⟩),
  (⟨#[100, 97, 116, 101]⟩, ⟨#[]⟩),
  (⟨#[101, 116, 97, 103]⟩, ⟨#[]⟩),
  (⟨#[101, 120, 112, 101, 99, 116]⟩, ⟨#[]⟩),
  (⟨#[101, 120, 112, 105, 114, 101, 115]⟩, ⟨#[]⟩),
  (⟨#[102, 114, 111, 109]⟩, ⟨#[]⟩),
  (⟨#[104, 111, 115, 116]⟩, ⟨#[]⟩),
  (⟨#[105, 102, 45, 109, 97, 116, 99, 104]⟩, ⟨#[]⟩),
  (⟨#[105, 102, 45, 109, 111, 100, 105, 102, 105, 101, 100, 45, 115, 105, 110, 99, 101]⟩, ⟨#[]⟩),
  (⟨#[105, 102, 45, 110, 111, 110, 101, 45, 109, 97, 116, 99, 104]⟩, ⟨#[]⟩),
  (⟨#[105, 102, 45, 114, 97, 110, 103, 101]⟩, ⟨#[]⟩),
  (⟨#[105, 102, 45, 117, 110, 109, 111, 100, 105, 102, 105, 101, 100, 45, 115, 105, 110, 99, 101]⟩, ⟨#[]⟩),
  (⟨#[108, 97, 115, 116, 45, 109, 111, 100, 105, 102, 105, 101, 100]⟩, ⟨#[]⟩),
  (⟨#[108, 105, 110, 107]⟩, ⟨#[]⟩),
  (⟨#[108, 111, 99, 97, 116, 105, 111, 110]⟩, ⟨#[]⟩),
  (⟨#[109, 97, 120, 45, 102, 111, 114, 119, 97, 114, 100, 115]⟩, ⟨#[]⟩),
  (⟨#[112, 114, 111, 120, 121, 45, 97, 117, 116, 104, 101, 110, 116, 105, 99, 97, 116, 101]⟩, ⟨#[]⟩),
  (⟨#[112, 114, 111, 120, 121, 45, 97, 117, 116, 104, 111, 114, 105, 122, 97, 116, 105, 111, 110]⟩, ⟨#[]⟩),
  (⟨#[114, 97, 110, 103, 101]⟩, ⟨#[]⟩),
  (⟨#[114, 101, 102, 101, 114, 101, 114]⟩, ⟨#[]⟩),
  (⟨#[114, 101, 102, 114, 101, 115, 104]⟩, ⟨#[]⟩),
  (⟨#[114, 101, 116, 114, 121, 45, 97, 102, 116, 101, 114]⟩, ⟨#[]⟩),
  (⟨#[115, 101, 114, 118, 101, 114]⟩, ⟨#[]⟩),
  (⟨#[115, 101, 116, 45, 99, 111, 111, 107, 105, 101]⟩, ⟨#[]⟩),
  (⟨#[115, 116, 114, 105, 99, 116, 45, 116, 114, 97, 110, 115, 112, 111, 114, 116, 45, 115, 101, 99, 117, 114, 105, 116, 121]⟩, ⟨#[]⟩),
  (⟨#[116, 114, 97, 110, 115, 102, 101, 114, 45, 101, 110, 99, 111, 100, 105, 110, 103]⟩, ⟨#[]⟩),
  (⟨#[117, 115, 101, 114, 45, 97, 103, 101, 110, 116]⟩, ⟨#[]⟩),
  (⟨#[118, 97, 114, 121]⟩, ⟨#[]⟩),
  (⟨#[118, 105, 97]⟩, ⟨#[]⟩),
  (⟨#[119, 119, 119, 45, 97, 117, 116, 104, 101, 110, 116, 105, 99, 97, 116, 101]⟩, ⟨#[]⟩)]

theorem firstL_len : firstL.length = 61 := by decide +kernel
set_option maxRecDepth 100000 in
theorem firstL_size : ∀ f ∈ firstL, f.1.size ≤ maxLen ∧ f.2.size ≤ maxLen := by decide +kernel

end Go.Proofs.YtemcjenpgdieoaaGreatDoor

namespace Go.Proofs.YtemcjenpgdieoaaGreatDoor
open Go.RowKit
set_option linter.unusedVariables false

/-- How many fields bear this name. -/
def cntF (nm : List UInt8) (xs : List Fld) : Nat := xs.countP fun f => f.1.toList == nm

/-- The value of the first of them; nothing, where there is none. -/
def valF (nm : List UInt8) : List Fld → ByteArray
  | [] => ⟨#[]⟩
  | f :: r => if f.1.toList == nm then f.2 else valF nm r

theorem cntF_next {nm : List UInt8} {xs : List Fld} {k : Nat} {x y : ByteArray} (h : xs[k]? = some (x, y)) : cntF nm (xs.take (k + 1)) = cntF nm (xs.take k) + (if x.toList == nm then 1 else 0) := by
  rw [cntF, cntF, List.take_add_one, h, List.countP_append]
  cases hb : x.toList == nm <;> simp [hb]

theorem cntF_le (nm : List UInt8) (xs : List Fld) : cntF nm xs ≤ xs.length := List.countP_le_length

theorem valF_some {nm : List UInt8} : ∀ {xs : List Fld} {k : Nat} {x y : ByteArray}, xs[k]? = some (x, y) → (x.toList == nm) = true → (∀ j x' y', j < k → xs[j]? = some (x', y') → (x'.toList == nm) = false) → valF nm xs = y
  | [], k, x, y, h, _, _ => by simp at h
  | f :: r, 0, x, y, h, hx, _ => by
    obtain rfl : f = (x, y) := by simpa using h
    rw [valF, if_pos hx]
  | f :: r, k + 1, x, y, h, hx, hn => by
    have h0 := hn 0 f.1 f.2 (by omega) (by simp)
    rw [valF, if_neg (by rw [h0]; simp)]
    exact valF_some (by simpa using h) hx fun j x' y' hj hjx => hn (j + 1) x' y' (by omega) (by simpa using hjx)

theorem valF_none {nm : List UInt8} : ∀ {xs : List Fld}, (∀ (j : Nat) (x' y' : ByteArray), xs[j]? = some (x', y') → (x'.toList == nm) = false) → valF nm xs = ⟨#[]⟩
  | [], _ => rfl
  | f :: r, hn => by
    have h0 := hn 0 f.1 f.2 (by simp)
    rw [valF, if_neg (by rw [h0]; simp)]
    exact valF_none fun j x' y' hjx => hn (j + 1) x' y' (by simpa using hjx)

end Go.Proofs.YtemcjenpgdieoaaGreatDoor

namespace Go.Proofs.YtemcjenpgdieoaaGreatDoor
open Go.RowKit
set_option linter.unusedVariables false

def bM : List UInt8 := [58, 109, 101, 116, 104, 111, 100]
def bS : List UInt8 := [58, 115, 99, 104, 101, 109, 101]
def bP : List UInt8 := [58, 112, 97, 116, 104]
def bA : List UInt8 := [58, 97, 117, 116, 104, 111, 114, 105, 116, 121]

/-- A capital. -/
def upC (b : UInt8) : Bool := decide (65 ≤ b.toNat) && decide (b.toNat ≤ 90)

/-- A name that begins with a colon. -/
def colB (x : List UInt8) : Bool := x.head? == some 58

/-- One of the four names. -/
def fourB (x : List UInt8) : Bool := x == bM || x == bS || x == bP || x == bA

/-- Whether one of the fields has a name without a colon ahead. -/
def plainF (ys : List Fld) : Bool := ys.any fun f => !colB f.1.toList

/-- Whether a name may stand behind these fields. -/
def okN (ys : List Fld) (x : List UInt8) : Bool := !x.isEmpty && x.all (fun b => !upC b) && (!colB x || (!plainF ys && fourB x && cntF x ys == 0))

def okL (xs : List Fld) : Prop := ∀ (k : Nat) (x y : ByteArray), xs[k]? = some (x, y) → okN (xs.take k) x.toList = true

/-- Whether fields are in order, and the first three there. -/
noncomputable def formB (xs : List Fld) : Bool := @decide (okL xs) (Classical.propDecidable _) && (cntF bM xs == 1 && cntF bS xs == 1 && cntF bP xs == 1)

theorem formB_bad {xs : List Fld} {k : Nat} {x y : ByteArray} (h : xs[k]? = some (x, y)) (hn : okN (xs.take k) x.toList = false) : formB xs = false := by
  have : ¬ okL xs := fun g => by have := g k x y h; rw [hn] at this; cases this
  rw [formB, Bool.and_eq_false_iff]
  exact .inl (by simp [this])

theorem formB_good {xs : List Fld} (h : okL xs) : formB xs = (cntF bM xs == 1 && cntF bS xs == 1 && cntF bP xs == 1) := by
  rw [formB]
  have : (@decide (okL xs) (Classical.propDecidable _)) = true := by simp [h]
  rw [this, Bool.true_and]

theorem plainF_next {xs : List Fld} {k : Nat} {x y : ByteArray} (h : xs[k]? = some (x, y)) : plainF (xs.take (k + 1)) = (plainF (xs.take k) || !colB x.toList) := by
  rw [plainF, plainF, List.take_add_one, h, List.any_append]
  simp

theorem Flds.takeR {w : World} {a : Option Addr} {n : Nat} {fs : List Fld} (h : Flds w a n fs) {k : Nat} (hk : k ≤ n) : Flds w a k (fs.take k) := by
  obtain ⟨h1, h2, h3⟩ := h
  refine ⟨by simp; omega, fun f hf => h2 f (List.mem_of_mem_take hf), ?_⟩
  rcases h3 with h0 | ⟨b, off, ha, hlt, hc⟩
  · exact .inl (by omega)
  · by_cases hk0 : k = 0
    · exact .inl hk0
    · refine .inr ⟨b, off, ha, hlt, fun i hi => ?_⟩
      have hil : i < fs.length := by simp at hi; omega
      rw [List.getElem_take]
      exact hc i hil

theorem bytes_list (x : ByteArray) : x.toList = x.data.toList := Lib.toList_data x

theorem list_empty {x : ByteArray} (h : x.size = 0) : x.toList = [] := by
  rw [bytes_list]
  exact List.eq_nil_of_length_eq_zero (by rw [Array.length_toList]; exact h)

theorem list_head {x : ByteArray} (h : 0 < x.size) : x.toList.head? = some (x[0]'h) := by
  rw [bytes_list, List.head?_eq_getElem?, List.getElem?_eq_getElem (by rw [Array.length_toList]; exact h), Array.getElem_toList]
  rfl

theorem list_some {x : ByteArray} (h : 0 < x.size) : x.toList.isEmpty = false := by
  have := list_head h
  cases hx : x.toList with
  | nil => rw [hx] at this; cases this
  | cons c r => rfl

theorem list_mem {x : ByteArray} {b : UInt8} (h : b ∈ x.toList) : ∃ k, ∃ hk : k < x.size, x[k] = b := by
  rw [bytes_list] at h
  obtain ⟨k, hk, rfl⟩ := List.mem_iff_getElem.1 h
  exact ⟨k, by rw [Array.length_toList] at hk; exact hk, by rw [Array.getElem_toList]; rfl⟩

theorem mem_list {x : ByteArray} {k : Nat} (hk : k < x.size) : x[k] ∈ x.toList := by
  rw [bytes_list]
  exact List.mem_iff_getElem.2 ⟨k, by rw [Array.length_toList]; exact hk, by rw [Array.getElem_toList]; rfl⟩

end Go.Proofs.YtemcjenpgdieoaaGreatDoor

namespace Go.Proofs.YtemcjenpgdieoaaGreatDoor

/-- The number that digits spell. -/
def val (l : List UInt8) : Nat := l.foldl (fun n c => n * 10 + (c.toNat - 48)) 0
def digs (l : List UInt8) : Prop := ∀ c ∈ l, 48 ≤ c.toNat ∧ c.toNat ≤ 57
def digsDec (l : List UInt8) : Decidable (digs l) := by unfold digs; infer_instance

theorem val_snoc (l : List UInt8) (c : UInt8) : val (l ++ [c]) = val l * 10 + (c.toNat - 48) := by simp [val, List.foldl_append]
theorem digs_snoc (l : List UInt8) (c : UInt8) : digs (l ++ [c]) ↔ digs l ∧ 48 ≤ c.toNat ∧ c.toNat ≤ 57 := by
  constructor
  · intro h
    exact ⟨fun x hx => h x (by simp [hx]), h c (by simp)⟩
  · intro h x hx
    rcases List.mem_append.1 hx with hx | hx
    · exact h.1 x hx
    · obtain rfl : x = c := by simpa using hx
      exact h.2

theorem fold_lt (l : List UInt8) : ∀ (n N : Nat), n < N → digs l → l.foldl (fun n c => n * 10 + (c.toNat - 48)) n < N * 10 ^ l.length := by
  induction l with
  | nil => intro n N h _; simpa using h
  | cons c l ih =>
    intro n N h hd
    have hc := hd c (by simp)
    have := ih (n * 10 + (c.toNat - 48)) (N * 10) (by omega) (fun x hx => hd x (by simp [hx]))
    rw [List.foldl_cons, List.length_cons, Nat.pow_succ]
    rw [show N * (10 ^ l.length * 10) = N * 10 * 10 ^ l.length from by rw [Nat.mul_comm (10 ^ l.length) 10, Nat.mul_assoc]]
    exact this
theorem val_lt (l : List UInt8) (h : digs l) : val l < 10 ^ l.length := by
  have := fold_lt l 0 1 (by omega) h
  rw [Nat.one_mul] at this
  exact this

theorem snoc_cases (l : List UInt8) : l = [] ∨ ∃ l' c, l = l' ++ [c] := by
  rcases List.eq_nil_or_concat l with h | ⟨l', c, h⟩
  · exact .inl h
  · exact .inr ⟨l', c, by simpa using h⟩

/-- Digits without a needless nought ahead are those of their number; and the number of several of them is not 0. -/
theorem digits_of_val (k : Nat) : ∀ l : List UInt8, l.length = k + 1 → digs l → (l.length = 1 ∨ l.head? ≠ some 48) → Lib.decDigits (val l) = l ∧ (l.head? ≠ some 48 → 1 ≤ val l) := by
  induction k with
  | zero =>
    intro l hl hd _
    match l, hl with
    | [c], _ =>
      have hc := hd c (by simp)
      have hv : val [c] = c.toNat - 48 := by simp [val]
      rw [hv, Lib.decDigits_one (by omega)]
      refine ⟨?_, fun hh => ?_⟩
      · rw [show 48 + (c.toNat - 48) = c.toNat by omega]
        simp
      · have : c.toNat ≠ 48 := fun e => hh (by
          have : c = 48 := UInt8.toNat_inj.1 (by simpa using e)
          simp [this])
        omega
  | succ k ih =>
    intro l hl hd hh
    rcases snoc_cases l with rfl | ⟨l', c, rfl⟩
    · simp at hl
    · have hl' : l'.length = k + 1 := by simpa using hl
      rw [digs_snoc] at hd
      have hhd : (l' ++ [c]).head? = l'.head? := by
        cases l' with
        | nil => simp at hl'
        | cons a t => rfl
      have hne : l'.head? ≠ some 48 := by
        rcases hh with h | h
        · rw [hl] at h; omega
        · rwa [hhd] at h
      obtain ⟨h1, h2⟩ := ih l' hl' hd.1 (.inr hne)
      have hv := h2 hne
      rw [val_snoc]
      refine ⟨?_, fun _ => by omega⟩
      rw [Lib.decDigits, dif_neg (by omega), show (val l' * 10 + (c.toNat - 48)) / 10 = val l' by omega, show 48 + (val l' * 10 + (c.toNat - 48)) % 10 = c.toNat by omega, h1]
      simp

/-- The digits of a number: all of them digits, its value, none needless ahead. -/
theorem val_of_digits (u : Nat) : digs (Lib.decDigits u) ∧ val (Lib.decDigits u) = u ∧ 1 ≤ (Lib.decDigits u).length ∧ ((Lib.decDigits u).length = 1 ∨ (Lib.decDigits u).head? ≠ some 48) ∧ (1 ≤ u → (Lib.decDigits u).head? ≠ some 48) := by
  induction u using Nat.strongRecOn with
  | ind u ih =>
    by_cases h : u < 10
    · rw [Lib.decDigits_one h]
      have e : (UInt8.ofNat (48 + u)).toNat = 48 + u := by simp; omega
      refine ⟨?_, ?_, by simp, .inl rfl, fun h1 hh => ?_⟩
      · intro c hc
        obtain rfl : c = UInt8.ofNat (48 + u) := by simpa using hc
        omega
      · simp only [val, List.foldl_cons, List.foldl_nil, e]
        omega
      · have h2 : UInt8.ofNat (48 + u) = 48 := by simpa using hh
        have h3 := congrArg UInt8.toNat h2
        rw [e] at h3
        simp at h3
        omega
    · have hu : u / 10 < u := by omega
      obtain ⟨i1, i2, i3, i4, i5⟩ := ih (u / 10) hu
      have e : (UInt8.ofNat (48 + u % 10)).toNat = 48 + u % 10 := by simp; omega
      rw [Lib.decDigits, dif_neg h]
      have hne := i5 (by omega)
      have hhd : (Lib.decDigits (u / 10) ++ [UInt8.ofNat (48 + u % 10)]).head? = (Lib.decDigits (u / 10)).head? := by
        cases hc : Lib.decDigits (u / 10) with
        | nil => rw [hc] at i3; simp at i3
        | cons a t => rfl
      refine ⟨(digs_snoc _ _).2 ⟨i1, by omega, by omega⟩, ?_, by simp, .inr (by rwa [hhd]), fun _ => by rwa [hhd]⟩
      rw [val_snoc, i2, e]
      omega

theorem decDigits_le (n : Nat) : ∀ u, u < 10 ^ (n + 1) → (Lib.decDigits u).length ≤ n + 1 := by
  induction n with
  | zero => intro u hu; rw [Lib.decDigits_one (by simpa using hu)]; simp
  | succ n ih =>
    intro u hu
    by_cases h : u < 10
    · rw [Lib.decDigits_one h]; simp
    · rw [Lib.decDigits, dif_neg h]
      have h2 : u / 10 < 10 ^ (n + 1) := by
        rw [Nat.pow_succ] at hu
        omega
      have := ih (u / 10) h2
      simp only [List.length_append, List.length_cons, List.length_nil]
      omega

/-- What is right for a number. -/
def Good (l : List UInt8) : Prop := 1 ≤ l.length ∧ l.length ≤ 10 ∧ (l.length = 1 ∨ l.head? ≠ some 48) ∧ digs l ∧ val l ≤ 1000000000
def goodDec (l : List UInt8) : Decidable (Good l) := by
  unfold Good
  have := digsDec l
  infer_instance

/-- What Number answers. -/
def numR (l : List UInt8) : Int × Bool := @ite _ (Good l) (goodDec l) ((val l : Int), true) (0, false)

theorem good_iff (l : List UInt8) : Good l ↔ ∃ u, u ≤ 1000000000 ∧ l = Lib.decDigits u := by
  constructor
  · intro ⟨h1, h2, h3, h4, h5⟩
    exact ⟨val l, h5, (digits_of_val (l.length - 1) l (by omega) h4 h3).1.symm⟩
  · rintro ⟨u, hu, rfl⟩
    obtain ⟨i1, i2, i3, i4, _⟩ := val_of_digits u
    refine ⟨i3, ?_, i4, i1, by omega⟩
    exact decDigits_le 9 u (by omega)

theorem fold_ge (l : List UInt8) : ∀ acc, acc ≤ l.foldl (fun n c => n * 10 + (c.toNat - 48)) acc := by
  induction l with
  | nil => intro acc; simp
  | cons c l ih =>
    intro acc
    have := ih (acc * 10 + (c.toNat - 48))
    rw [List.foldl_cons]
    omega

theorem parse_of_digs (l : List UInt8) : ∀ acc, digs l → l.foldl (fun n c => n * 10 + (c.toNat - 48)) acc ≤ 1000000000 → Lib.parseUint10 acc l = .ok (l.foldl (fun n c => n * 10 + (c.toNat - 48)) acc) := by
  induction l with
  | nil => intro acc _ _; rfl
  | cons c l ih =>
    intro acc hd hb
    have hc := hd c (by simp)
    rw [List.foldl_cons] at hb ⊢
    have hg := fold_ge l (acc * 10 + (c.toNat - 48))
    rw [Lib.parseUint10, if_pos hc, if_neg (by omega), if_neg (by omega)]
    exact ih _ (fun x hx => hd x (by simp [hx])) hb

theorem atoi_of_digits (u : Nat) (hu : u ≤ 1000000000) : Lib.atoiAll (Lib.decDigits u) = .ok (u : Int) := by
  obtain ⟨i1, i2, i3, _, _⟩ := val_of_digits u
  have hp := parse_of_digs (Lib.decDigits u) 0 i1 (by show val _ ≤ _; omega)
  have hv : (Lib.decDigits u).foldl (fun n c => n * 10 + (c.toNat - 48)) 0 = u := i2
  rw [hv] at hp
  generalize Lib.decDigits u = l at *
  match l, i3 with
  | c :: r, _ =>
    have hc := i1 c (by simp)
    have e43 : ¬ (c.toNat = 43 ∨ c.toNat = 45) := by omega
    have e45 : ¬ c.toNat = 45 := by omega
    have hm : Lib.parseMag (c :: r) = .ok u := by rw [Lib.parseMag, if_neg (by simp)]; exact hp
    simp only [Lib.atoiAll]
    rw [if_neg e43, hm]
    show (if ¬ c.toNat = 45 ∧ 9223372036854775808 ≤ u then Lib.NumEnd.range else if c.toNat = 45 ∧ 9223372036854775808 < u then Lib.NumEnd.range else Lib.NumEnd.ok (if c.toNat = 45 then -(u : Int) else u)) = _
    rw [if_neg (by omega), if_neg (by omega), if_neg e45]

end Go.Proofs.YtemcjenpgdieoaaGreatDoor

namespace Go.Proofs.YtemcjenpgdieoaaGreatDoor
open Go.RowKit
set_option linter.unusedVariables false

theorem nmTakeSnoc (s : ByteArray) (k : Nat) (h : k < s.size) : s.data.toList.take (k + 1) = s.data.toList.take k ++ [s[k]] := by
  rw [List.take_succ_eq_append_getElem (by simpa using h)]; rfl

theorem nmLen (s : ByteArray) : s.data.toList.length = s.size := Array.length_toList

theorem str_head (s : ByteArray) (h : 0 < s.size) : s.data.toList.head? = some s[0] := by
  have : s.data.toList = s[0] :: s.data.toList.drop 1 := by
    have h1 := nmTakeSnoc s 0 h
    have h2 := List.take_append_drop 1 s.data.toList
    rw [show (0 + 1) = 1 from rfl] at h1
    rw [h1] at h2
    simpa using h2.symm
  rw [this]; rfl

theorem nmPair {a b : Int} {x y : Bool} (h : a = b) (k : x = y) : Ending.returned (.tuple #[.int .i64 a, .bool x]) = .returned (.tuple #[.int .i64 b, .bool y]) := by rw [h, k]

/-- What is a number of at most ten digits. -/
def Good0 (l : List UInt8) : Prop := 1 ≤ l.length ∧ l.length ≤ 10 ∧ (l.length = 1 ∨ l.head? ≠ some 48) ∧ digs l

/-- What l11Number answers. -/
noncomputable def numM (l : List UInt8) (most : Int) : Int × Bool := @ite _ (Good0 l) (Classical.propDecidable _) ((val l : Int), decide ((val l : Int) ≤ most)) (0, false)

theorem numM_bad (l : List UInt8) (most : Int) (h : ¬ Good0 l) : numM l most = (0, false) := if_neg h
theorem numM_good (l : List UInt8) (most : Int) (h : Good0 l) : numM l most = ((val l : Int), decide ((val l : Int) ≤ most)) := if_pos h

theorem digs_take {l : List UInt8} {k : Nat} (h : digs l) : digs (l.take k) := fun c hc => h c (List.mem_of_mem_take hc)

theorem val_small (s : ByteArray) (k : Nat) (h10 : s.size ≤ 10) (hd : digs (s.data.toList.take k)) : val (s.data.toList.take k) ≤ 10000000000 := by
  have h1 := val_lt _ hd
  have h2 : (s.data.toList.take k).length ≤ 10 := by
    have := nmLen s
    simp only [List.length_take]
    omega
  have h3 : 10 ^ (s.data.toList.take k).length ≤ 10 ^ 10 := Nat.pow_le_pow_right (by decide) h2
  have h4 : 10 ^ 10 = 10000000000 := by decide
  omega

theorem good0_iff (l : List UInt8) : Good0 l ↔ ∃ u, u < 10000000000 ∧ l = Lib.decDigits u := by
  constructor
  · intro ⟨h1, h2, h3, h4⟩
    have h5 := val_lt _ h4
    have h6 : 10 ^ l.length ≤ 10 ^ 10 := Nat.pow_le_pow_right (by decide) h2
    have h7 : 10 ^ 10 = 10000000000 := by decide
    exact ⟨val l, by omega, (digits_of_val (l.length - 1) l (by omega) h4 h3).1.symm⟩
  · rintro ⟨u, hu, rfl⟩
    obtain ⟨i1, i2, i3, i4, _⟩ := val_of_digits u
    exact ⟨i3, decDigits_le 9 u (by omega), i4, i1⟩

theorem val_dec (u : Nat) : val (Lib.decDigits u) = u := (val_of_digits u).2.1

theorem parse_of_digs0 (l : List UInt8) : ∀ acc, digs l → l.foldl (fun n c => n * 10 + (c.toNat - 48)) acc < 10000000000 → Lib.parseUint10 acc l = .ok (l.foldl (fun n c => n * 10 + (c.toNat - 48)) acc) := by
  induction l with
  | nil => intro acc _ _; rfl
  | cons c l ih =>
    intro acc hd hb
    have hc := hd c (by simp)
    rw [List.foldl_cons] at hb ⊢
    have hg := fold_ge l (acc * 10 + (c.toNat - 48))
    rw [Lib.parseUint10, if_pos hc, if_neg (by omega), if_neg (by omega)]
    exact ih _ (fun x hx => hd x (by simp [hx])) hb

theorem atoi_of_dec (u : Nat) (hu : u < 10000000000) : Lib.atoiAll (Lib.decDigits u) = .ok (u : Int) := by
  obtain ⟨i1, i2, i3, _, _⟩ := val_of_digits u
  have hp := parse_of_digs0 (Lib.decDigits u) 0 i1 (by show val _ < _; omega)
  have hv : (Lib.decDigits u).foldl (fun n c => n * 10 + (c.toNat - 48)) 0 = u := i2
  rw [hv] at hp
  generalize Lib.decDigits u = l at *
  match l, i3 with
  | c :: r, _ =>
    have hc := i1 c (by simp)
    have e43 : ¬ (c.toNat = 43 ∨ c.toNat = 45) := by omega
    have e45 : ¬ c.toNat = 45 := by omega
    have hm : Lib.parseMag (c :: r) = .ok u := by rw [Lib.parseMag, if_neg (by simp)]; exact hp
    simp only [Lib.atoiAll]
    rw [if_neg e43, hm]
    show (if ¬ c.toNat = 45 ∧ 9223372036854775808 ≤ u then Lib.NumEnd.range else if c.toNat = 45 ∧ 9223372036854775808 < u then Lib.NumEnd.range else Lib.NumEnd.ok (if c.toNat = 45 then -(u : Int) else u)) = _
    rw [if_neg (by omega), if_neg (by omega), if_neg e45]

/-- What a reader with a bound answers. -/
noncomputable def upR (l : List UInt8) (most : Int) : Int × Bool := @ite _ (Good0 l ∧ (val l : Int) ≤ most) (Classical.propDecidable _) ((val l : Int), true) (0, false)

theorem upR_bad {l : List UInt8} {most : Int} (h : ¬ (Good0 l ∧ (val l : Int) ≤ most)) : upR l most = (0, false) := if_neg h
theorem upR_good {l : List UInt8} {most : Int} (h : Good0 l) (h2 : (val l : Int) ≤ most) : upR l most = ((val l : Int), true) := if_pos ⟨h, h2⟩

theorem upR_nothing {l : List UInt8} {most : Int} (h : ∀ v, Lib.atoiAll l ≠ .ok v) : upR l most = (0, false) := upR_bad fun hg => by
  obtain ⟨u, hu, rfl⟩ := (good0_iff l).1 hg.1
  exact h _ (atoi_of_dec u hu)

theorem upR_below {l : List UInt8} {most v : Int} (h : Lib.atoiAll l = .ok v) (hv : v < 0 ∨ most < v) : upR l most = (0, false) := upR_bad fun hg => by
  obtain ⟨u, hu, rfl⟩ := (good0_iff l).1 hg.1
  have h2 := hg.2
  rw [val_dec] at h2
  have e : Lib.NumEnd.ok v = Lib.NumEnd.ok (u : Int) := h.symm.trans (atoi_of_dec u hu)
  injection e with e
  omega

theorem upR_other {l : List UInt8} {most v : Int} (h : Lib.atoiAll l = .ok v) (hv : Lib.decDigits v.toNat ≠ l) : upR l most = (0, false) := upR_bad fun hg => by
  obtain ⟨u, hu, rfl⟩ := (good0_iff l).1 hg.1
  have e : Lib.NumEnd.ok v = Lib.NumEnd.ok (u : Int) := h.symm.trans (atoi_of_dec u hu)
  injection e with e
  subst e
  exact hv (by rw [Int.toNat_natCast])

theorem upR_same {l : List UInt8} {most v : Int} (hm : most < 10000000000) (h0 : 0 ≤ v) (h1 : v ≤ most) (hv : Lib.decDigits v.toNat = l) : upR l most = (v, true) := by
  obtain ⟨u, rfl⟩ := Int.eq_ofNat_of_zero_le h0
  rw [Int.toNat_natCast] at hv
  subst hv
  rw [upR_good ((good0_iff _).2 ⟨u, by omega, rfl⟩) (by rw [val_dec]; exact h1), val_dec]

/-- What is read of a number's own text. -/
theorem upR_back {u : Nat} {most : Int} (hm : most < 10000000000) (h : (u : Int) ≤ most) : upR (Lib.decDigits u) most = ((u : Int), true) := upR_same hm (by omega) h (by rw [Int.toNat_natCast])

/-- Where the bounded reader reads one, the plain one does, and the other way round. -/
theorem numM_upR (l : List UInt8) (most : Int) : (numM l most).2 = (upR l most).2 ∧ ((upR l most).2 = true → (numM l most).1 = (upR l most).1) := by
  by_cases hg : Good0 l
  · rw [numM_good l most hg]
    by_cases hv : (val l : Int) ≤ most
    · rw [upR_good hg hv]
      exact ⟨decide_eq_true hv, fun _ => rfl⟩
    · rw [upR_bad (fun h => hv h.2)]
      exact ⟨decide_eq_false hv, fun h => by cases h⟩
  · rw [numM_bad l most hg, upR_bad (fun h => hg h.1)]
    exact ⟨rfl, fun h => by cases h⟩

theorem numR_upR (l : List UInt8) : numR l = upR l 1000000000 := by
  by_cases hg : Good l
  · rw [numR, if_pos hg]
    obtain ⟨h1, h2, h3, h4, h5⟩ := hg
    rw [upR_good ⟨h1, h2, h3, h4⟩ (by omega)]
  · rw [numR, if_neg hg, upR_bad fun h => hg ⟨h.1.1, h.1.2.1, h.1.2.2.1, h.1.2.2.2, by omega⟩]

end Go.Proofs.YtemcjenpgdieoaaGreatDoor

namespace Go.Proofs.YtemcjenpgdieoaaGreatDoor
open Go.RowKit
set_option linter.unusedVariables false

/-- The method of an op. -/
def methT (op : Int) : ByteArray := if op = 1 then ⟨#[80, 79, 83, 84]⟩ else if op = 2 then ⟨#[72, 69, 65, 68]⟩ else if op = 3 then ⟨#[80, 65, 84, 67, 72]⟩ else if op = 4 then ⟨#[80, 85, 84]⟩ else if op = 5 then ⟨#[71, 69, 84]⟩ else if op = 6 then ⟨#[68, 69, 76, 69, 84, 69]⟩ else ⟨#[]⟩

/-- The name of the field of an op's number. -/
def nameT (op : Int) : ByteArray := if op = 1 then ⟨#[117, 112, 108, 111, 97, 100, 45, 108, 101, 110, 103, 116, 104]⟩ else if op = 3 then ⟨#[117, 112, 108, 111, 97, 100, 45, 111, 102, 102, 115, 101, 116]⟩ else if op = 4 then ⟨#[117, 112, 108, 111, 97, 100, 45, 115, 117, 109]⟩ else ⟨#[]⟩

end Go.Proofs.YtemcjenpgdieoaaGreatDoor

namespace Go.Proofs.YtemcjenpgdieoaaGreatDoor
open Go.RowKit
set_option linter.unusedVariables false

/-- The op of a method, among the first ones; 0: none of them. -/
def opTo (m : List UInt8) : Nat → Int
  | 0 => 0
  | k + 1 => if (methT ((k + 1 : Nat) : Int)).toList == m then ((k + 1 : Nat) : Int) else opTo m k

theorem opTo_le (m : List UInt8) : ∀ k, 0 ≤ opTo m k ∧ opTo m k ≤ k
  | 0 => ⟨Int.le_refl _, Int.le_refl _⟩
  | k + 1 => by
    have := opTo_le m k
    unfold opTo
    split <;> omega

def rqZero : Int × ByteArray × Int := (0, ⟨#[]⟩, 0)

/-- A path's beginning. -/
def bU : List UInt8 := [47, 117, 112, 47]

/-- Whether a path is one. -/
def pathB (p : ByteArray) : Bool := decide (5 ≤ p.size) && ((p.extract 0 4).toList == bU) && idB (p.extract 4 p.size).data.toList

/-- What ReqOf answers. -/
noncomputable def reqOfR (xs : List Fld) : (Int × ByteArray × Int) × Int :=
  if formB xs = false then (rqZero, 1) else
  if opTo (valF bM xs).toList 6 = 0 then (rqZero, 2) else
  if pathB (valF bP xs) = false then (rqZero, 3) else
  if (nameT (opTo (valF bM xs).toList 6)).toList = [] then ((opTo (valF bM xs).toList 6, (valF bP xs).extract 4 (valF bP xs).size, 0), 0) else
  if (numM (valF (nameT (opTo (valF bM xs).toList 6)).toList xs).data.toList (mostR (opTo (valF bM xs).toList 6))).2 = false ∨ cntF (nameT (opTo (valF bM xs).toList 6)).toList xs ≠ 1 then (rqZero, 4) else
  ((opTo (valF bM xs).toList 6, (valF bP xs).extract 4 (valF bP xs).size, (numM (valF (nameT (opTo (valF bM xs).toList 6)).toList xs).data.toList (mostR (opTo (valF bM xs).toList 6))).1), 0)

theorem valF_size (nm : List UInt8) : ∀ xs : List Fld, (∀ f ∈ xs, f.1.size ≤ maxLen ∧ f.2.size ≤ maxLen) → (valF nm xs).size ≤ maxLen
  | [], _ => by show (0 : Nat) ≤ _; exact Nat.zero_le _
  | f :: r, h => by
    unfold valF
    split
    · exact (h f (by simp)).2
    · exact valF_size nm r fun g hg => h g (by simp [hg])

end Go.Proofs.YtemcjenpgdieoaaGreatDoor
