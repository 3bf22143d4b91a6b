/- How many fields bear a name, and the value of the first: no statement of the program; no condition. Whether fields are in order, and the first three there: no statement of the program; no condition. Plain facts on the digits of numbers; no program in it. Numbers as texts of up to ten digits, and what a reader with a bound answers: no statement of the program; no condition. The request that fields are, or a fault: no statement of the program; no condition. What the program's idOk answers: whether a text is an upload's name. A region that draws its order, whose operations only read and whose callees leave all that was there: walked once, in the order of the text. No program in it. The program's table of methods, and what its opOf and ReqOk answer under it. The contracts of strconv.Itoa and strconv.Atoi of the library, laid at this translation by its own command: no walk, no condition of ours. The library's table and its errors are there. -/
import Derived.Test.YtbaijmkghgnleaaGreatDoorM09
import Derived.Test.YtbaijmkghgnleaaGreatDoorM01
import Derived.Lib.Strings
import Derived.Lib.ItoaNum
import Derived.Lib.ItoaMem
import Derived.Lib.AtoiAll
import Derived.Test.YtbaijmkghgnleaaGreatDoorM24
import Derived.Test.YtbaijmkghgnleaaGreatDoorM24
import Derived.Lib.ConvBytes
import Derived.Lib.AtoiErrMem
import Derived.WalkKit
import Derived.Deep.QuietTactic
import Derived.Test.YtbaijmkghgnleaaGreatDoorM25
import Derived.Shelf.Strconv.Itoa0
import Derived.Shelf.Strconv.Itoa1
import Derived.Shelf.LaysM
import Derived.Shelf.Strconv.Itoa2
import Derived.Shelf.Strconv.Itoa3
import Derived.Test.YtbaijmkghgnleaaGreatDoorProg
import Derived.WalkSmall
import Derived.Lib.AppendIntMem
import Derived.Lib.LaidTab
namespace Go.Proofs.YtbaijmkghgnleaaGreatDoor
open Go.RowKit
set_option linter.unusedVariables false

/-- How many fields bear this name. -/
def cntF (nm : List UInt8) (xs : List Fld) : Nat := xs.countP fun f => f.1.toList == nm

/-- The value of the first of them; nothing, where there is none. -/
def valF (nm : List UInt8) : List Fld → ByteArray
  | [] => ⟨#[]⟩
  | f :: r => if f.1.toList == nm then f.2 else valF nm r

theorem cntF_next {nm : List UInt8} {xs : List Fld} {k : Nat} {x y : ByteArray} (h : xs[k]? = some (x, y)) : cntF nm (xs.take (k + 1)) = cntF nm (xs.take k) + (if x.toList == nm then 1 else 0) := by
  rw [cntF, cntF, List.take_add_one, h, List.countP_append]
  cases hb : x.toList == nm <;> simp [hb]

theorem cntF_le (nm : List UInt8) (xs : List Fld) : cntF nm xs ≤ xs.length := List.countP_le_length

theorem valF_some {nm : List UInt8} : ∀ {xs : List Fld} {k : Nat} {x y : ByteArray}, xs[k]? = some (x, y) → (x.toList == nm) = true → (∀ j x' y', j < k → xs[j]? = some (x', y') → (x'.toList == nm) = false) → valF nm xs = y
  | [], k, x, y, h, _, _ => by simp at h
  | f :: r, 0, x, y, h, hx, _ => by
    obtain rfl : f = (x, y) := by simpa using h
    rw [valF, if_pos hx]
  | f :: r, k + 1, x, y, h, hx, hn => by
    have h0 := hn 0 f.1 f.2 (by omega) (by simp)
    rw [valF, if_neg (by rw [h0]; simp)]
    exact valF_some (by simpa using h) hx fun j x' y' hj hjx => hn (j + 1) x' y' (by omega) (by simpa using hjx)

theorem valF_none {nm : List UInt8} : ∀ {xs : List Fld}, (∀ (j : Nat) (x' y' : ByteArray), xs[j]? = some (x', y') → (x'.toList == nm) = false) → valF nm xs = ⟨#[]⟩
  | [], _ => rfl
  | f :: r, hn => by
    have h0 := hn 0 f.1 f.2 (by simp)
    rw [valF, if_neg (by rw [h0]; simp)]
    exact valF_none fun j x' y' hjx => hn (j + 1) x' y' (by simpa using hjx)

end Go.Proofs.YtbaijmkghgnleaaGreatDoor

namespace Go.Proofs.YtbaijmkghgnleaaGreatDoor
open Go.RowKit
set_option linter.unusedVariables false

def bM : List UInt8 := [58, 109, 101, 116, 104, 111, 100]
def bS : List UInt8 := [58, 115, 99, 104, 101, 109, 101]
def bP : List UInt8 := [58, 112, 97, 116, 104]
def bA : List UInt8 := [58, 97, 117, 116, 104, 111, 114, 105, 116, 121]

/-- A capital. -/
def upC (b : UInt8) : Bool := decide (65 ≤ b.toNat) && decide (b.toNat ≤ 90)

/-- A name that begins with a colon. -/
def colB (x : List UInt8) : Bool := x.head? == some 58

/-- One of the four names. -/
def fourB (x : List UInt8) : Bool := x == bM || x == bS || x == bP || x == bA

/-- Whether one of the fields has a name without a colon ahead. -/
def plainF (ys : List Fld) : Bool := ys.any fun f => !colB f.1.toList

/-- Whether a name may stand behind these fields. -/
def okN (ys : List Fld) (x : List UInt8) : Bool := !x.isEmpty && x.all (fun b => !upC b) && (!colB x || (!plainF ys && fourB x && cntF x ys == 0))

def okL (xs : List Fld) : Prop := ∀ (k : Nat) (x y : ByteArray), xs[k]? = some (x, y) → okN (xs.take k) x.toList = true

/-- Whether fields are in order, and the first three there. -/
noncomputable def formB (xs : List Fld) : Bool := @decide (okL xs) (Classical.propDecidable _) && (cntF bM xs == 1 && cntF bS xs == 1 && cntF bP xs == 1)

theorem formB_bad {xs : List Fld} {k : Nat} {x y : ByteArray} (h : xs[k]? = some (x, y)) (hn : okN (xs.take k) x.toList = false) : formB xs = false := by
  have : ¬ okL xs := fun g => by have := g k x y h; rw [hn] at this; cases this
  rw [formB, Bool.and_eq_false_iff]
  exact .inl (by simp [this])

theorem formB_good {xs : List Fld} (h : okL xs) : formB xs = (cntF bM xs == 1 && cntF bS xs == 1 && cntF bP xs == 1) := by
  rw [formB]
  have : (@decide (okL xs) (Classical.propDecidable _)) = true := by simp [h]
  rw [this, Bool.true_and]

theorem plainF_next {xs : List Fld} {k : Nat} {x y : ByteArray} (h : xs[k]? = some (x, y)) : plainF (xs.take (k + 1)) = (plainF (xs.take k) || !colB x.toList) := by
  rw [plainF, plainF, List.take_add_one, h, List.any_append]
  simp

theorem Flds.takeR {w : World} {a : Option Addr} {n : Nat} {fs : List Fld} (h : Flds w a n fs) {k : Nat} (hk : k ≤ n) : Flds w a k (fs.take k) := by
  obtain ⟨h1, h2, h3⟩ := h
  refine ⟨by simp; omega, fun f hf => h2 f (List.mem_of_mem_take hf), ?_⟩
  rcases h3 with h0 | ⟨b, off, ha, hlt, hc⟩
  · exact .inl (by omega)
  · by_cases hk0 : k = 0
    · exact .inl hk0
    · refine .inr ⟨b, off, ha, hlt, fun i hi => ?_⟩
      have hil : i < fs.length := by simp at hi; omega
      rw [List.getElem_take]
      exact hc i hil

theorem bytes_list (x : ByteArray) : x.toList = x.data.toList := Lib.toList_data x

theorem list_empty {x : ByteArray} (h : x.size = 0) : x.toList = [] := by
  rw [bytes_list]
  exact List.eq_nil_of_length_eq_zero (by rw [Array.length_toList]; exact h)

theorem list_head {x : ByteArray} (h : 0 < x.size) : x.toList.head? = some (x[0]'h) := by
  rw [bytes_list, List.head?_eq_getElem?, List.getElem?_eq_getElem (by rw [Array.length_toList]; exact h), Array.getElem_toList]
  rfl

theorem list_some {x : ByteArray} (h : 0 < x.size) : x.toList.isEmpty = false := by
  have := list_head h
  cases hx : x.toList with
  | nil => rw [hx] at this; cases this
  | cons c r => rfl

theorem list_mem {x : ByteArray} {b : UInt8} (h : b ∈ x.toList) : ∃ k, ∃ hk : k < x.size, x[k] = b := by
  rw [bytes_list] at h
  obtain ⟨k, hk, rfl⟩ := List.mem_iff_getElem.1 h
  exact ⟨k, by rw [Array.length_toList] at hk; exact hk, by rw [Array.getElem_toList]; rfl⟩

theorem mem_list {x : ByteArray} {k : Nat} (hk : k < x.size) : x[k] ∈ x.toList := by
  rw [bytes_list]
  exact List.mem_iff_getElem.2 ⟨k, by rw [Array.length_toList]; exact hk, by rw [Array.getElem_toList]; rfl⟩

end Go.Proofs.YtbaijmkghgnleaaGreatDoor

namespace Go.Proofs.YtbaijmkghgnleaaGreatDoor

/-- The number that digits spell. -/
def val (l : List UInt8) : Nat := l.foldl (fun n c => n * 10 + (c.toNat - 48)) 0
def digs (l : List UInt8) : Prop := ∀ c ∈ l, 48 ≤ c.toNat ∧ c.toNat ≤ 57
def digsDec (l : List UInt8) : Decidable (digs l) := by unfold digs; infer_instance

theorem val_snoc (l : List UInt8) (c : UInt8) : val (l ++ [c]) = val l * 10 + (c.toNat - 48) := by simp [val, List.foldl_append]
theorem digs_snoc (l : List UInt8) (c : UInt8) : digs (l ++ [c]) ↔ digs l ∧ 48 ≤ c.toNat ∧ c.toNat ≤ 57 := by
  constructor
  · intro h
    exact ⟨fun x hx => h x (by simp [hx]), h c (by simp)⟩
  · intro h x hx
    rcases List.mem_append.1 hx with hx | hx
    · exact h.1 x hx
    · obtain rfl : x = c := by simpa using hx
      exact h.2

theorem fold_lt (l : List UInt8) : ∀ (n N : Nat), n < N → digs l → l.foldl (fun n c => n * 10 + (c.toNat - 48)) n < N * 10 ^ l.length := by
  induction l with
  | nil => intro n N h _; simpa using h
  | cons c l ih =>
    intro n N h hd
    have hc := hd c (by simp)
    have := ih (n * 10 + (c.toNat - 48)) (N * 10) (by omega) (fun x hx => hd x (by simp [hx]))
    rw [List.foldl_cons, List.length_cons, Nat.pow_succ]
    rw [show N * (10 ^ l.length * 10) = N * 10 * 10 ^ l.length from by rw [Nat.mul_comm (10 ^ l.length) 10, Nat.mul_assoc]]
    exact this
theorem val_lt (l : List UInt8) (h : digs l) : val l < 10 ^ l.length := by
  have := fold_lt l 0 1 (by omega) h
  rw [Nat.one_mul] at this
  exact this

theorem snoc_cases (l : List UInt8) : l = [] ∨ ∃ l' c, l = l' ++ [c] := by
  rcases List.eq_nil_or_concat l with h | ⟨l', c, h⟩
  · exact .inl h
  · exact .inr ⟨l', c, by simpa using h⟩

/-- Digits without a needless nought ahead are those of their number; and the number of several of them is not 0. -/
theorem digits_of_val (k : Nat) : ∀ l : List UInt8, l.length = k + 1 → digs l → (l.length = 1 ∨ l.head? ≠ some 48) → Lib.decDigits (val l) = l ∧ (l.head? ≠ some 48 → 1 ≤ val l) := by
  induction k with
  | zero =>
    intro l hl hd _
    match l, hl with
    | [c], _ =>
      have hc := hd c (by simp)
      have hv : val [c] = c.toNat - 48 := by simp [val]
      rw [hv, Lib.decDigits_one (by omega)]
      refine ⟨?_, fun hh => ?_⟩
      · rw [show 48 + (c.toNat - 48) = c.toNat by omega]
        simp
      · have : c.toNat ≠ 48 := fun e => hh (by
          have : c = 48 := UInt8.toNat_inj.1 (by simpa using e)
          simp [this])
        omega
  | succ k ih =>
    intro l hl hd hh
    rcases snoc_cases l with rfl | ⟨l', c, rfl⟩
    · simp at hl
    · have hl' : l'.length = k + 1 := by simpa using hl
      rw [digs_snoc] at hd
      have hhd : (l' ++ [c]).head? = l'.head? := by
        cases l' with
        | nil => simp at hl'
        | cons a t => rfl
      have hne : l'.head? ≠ some 48 := by
        rcases hh with h | h
        · rw [hl] at h; omega
        · rwa [hhd] at h
      obtain ⟨h1, h2⟩ := ih l' hl' hd.1 (.inr hne)
      have hv := h2 hne
      rw [val_snoc]
      refine ⟨?_, fun _ => by omega⟩
      rw [Lib.decDigits, dif_neg (by omega), show (val l' * 10 + (c.toNat - 48)) / 10 = val l' by omega, show 48 + (val l' * 10 + (c.toNat - 48)) % 10 = c.toNat by omega, h1]
      simp

/-- The digits of a number: all of them digits, its value, none needless ahead. -/
theorem val_of_digits (u : Nat) : digs (Lib.decDigits u) ∧ val (Lib.decDigits u) = u ∧ 1 ≤ (Lib.decDigits u).length ∧ ((Lib.decDigits u).length = 1 ∨ (Lib.decDigits u).head? ≠ some 48) ∧ (1 ≤ u → (Lib.decDigits u).head? ≠ some 48) := by
  induction u using Nat.strongRecOn with
  | ind u ih =>
    by_cases h : u < 10
    · rw [Lib.decDigits_one h]
      have e : (UInt8.ofNat (48 + u)).toNat = 48 + u := by simp; omega
      refine ⟨?_, ?_, by simp, .inl rfl, fun h1 hh => ?_⟩
      · intro c hc
        obtain rfl : c = UInt8.ofNat (48 + u) := by simpa using hc
        omega
      · simp only [val, List.foldl_cons, List.foldl_nil, e]
        omega
      · have h2 : UInt8.ofNat (48 + u) = 48 := by simpa using hh
        have h3 := congrArg UInt8.toNat h2
        rw [e] at h3
        simp at h3
        omega
    · have hu : u / 10 < u := by omega
      obtain ⟨i1, i2, i3, i4, i5⟩ := ih (u / 10) hu
      have e : (UInt8.ofNat (48 + u % 10)).toNat = 48 + u % 10 := by simp; omega
      rw [Lib.decDigits, dif_neg h]
      have hne := i5 (by omega)
      have hhd : (Lib.decDigits (u / 10) ++ [UInt8.ofNat (48 + u % 10)]).head? = (Lib.decDigits (u / 10)).head? := by
        cases hc : Lib.decDigits (u / 10) with
        | nil => rw [hc] at i3; simp at i3
        | cons a t => rfl
      refine ⟨(digs_snoc _ _).2 ⟨i1, by omega, by omega⟩, ?_, by simp, .inr (by rwa [hhd]), fun _ => by rwa [hhd]⟩
      rw [val_snoc, i2, e]
      omega

theorem decDigits_le (n : Nat) : ∀ u, u < 10 ^ (n + 1) → (Lib.decDigits u).length ≤ n + 1 := by
  induction n with
  | zero => intro u hu; rw [Lib.decDigits_one (by simpa using hu)]; simp
  | succ n ih =>
    intro u hu
    by_cases h : u < 10
    · rw [Lib.decDigits_one h]; simp
    · rw [Lib.decDigits, dif_neg h]
      have h2 : u / 10 < 10 ^ (n + 1) := by
        rw [Nat.pow_succ] at hu
        omega
      have := ih (u / 10) h2
      simp only [List.length_append, List.length_cons, List.length_nil]
      omega

/-- What is right for a number. -/
def Good (l : List UInt8) : Prop := 1 ≤ l.length ∧ l.length ≤ 10 ∧ (l.length = 1 ∨ l.head? ≠ some 48) ∧ digs l ∧ val l ≤ 1000000000
def goodDec (l : List UInt8) : Decidable (Good l) := by
  unfold Good
  have := digsDec l
  infer_instance

/-- What Number answers. -/
def numR (l : List UInt8) : Int × Bool := @ite _ (Good l) (goodDec l) ((val l : Int), true) (0, false)

theorem good_iff (l : List UInt8) : Good l ↔ ∃ u, u ≤ 1000000000 ∧ l = Lib.decDigits u := by
  constructor
  · intro ⟨h1, h2, h3, h4, h5⟩
    exact ⟨val l, h5, (digits_of_val (l.length - 1) l (by omega) h4 h3).1.symm⟩
  · rintro ⟨u, hu, rfl⟩
    obtain ⟨i1, i2, i3, i4, _⟩ := val_of_digits u
    refine ⟨i3, ?_, i4, i1, by omega⟩
    exact decDigits_le 9 u (by omega)

theorem fold_ge (l : List UInt8) : ∀ acc, acc ≤ l.foldl (fun n c => n * 10 + (c.toNat - 48)) acc := by
  induction l with
  | nil => intro acc; simp
  | cons c l ih =>
    intro acc
    have := ih (acc * 10 + (c.toNat - 48))
    rw [List.foldl_cons]
    omega

theorem parse_of_digs (l : List UInt8) : ∀ acc, digs l → l.foldl (fun n c => n * 10 + (c.toNat - 48)) acc ≤ 1000000000 → Lib.parseUint10 acc l = .ok (l.foldl (fun n c => n * 10 + (c.toNat - 48)) acc) := by
  induction l with
  | nil => intro acc _ _; rfl
  | cons c l ih =>
    intro acc hd hb
    have hc := hd c (by simp)
    rw [List.foldl_cons] at hb ⊢
    have hg := fold_ge l (acc * 10 + (c.toNat - 48))
    rw [Lib.parseUint10, if_pos hc, if_neg (by omega), if_neg (by omega)]
    exact ih _ (fun x hx => hd x (by simp [hx])) hb

theorem atoi_of_digits (u : Nat) (hu : u ≤ 1000000000) : Lib.atoiAll (Lib.decDigits u) = .ok (u : Int) := by
  obtain ⟨i1, i2, i3, _, _⟩ := val_of_digits u
  have hp := parse_of_digs (Lib.decDigits u) 0 i1 (by show val _ ≤ _; omega)
  have hv : (Lib.decDigits u).foldl (fun n c => n * 10 + (c.toNat - 48)) 0 = u := i2
  rw [hv] at hp
  generalize Lib.decDigits u = l at *
  match l, i3 with
  | c :: r, _ =>
    have hc := i1 c (by simp)
    have e43 : ¬ (c.toNat = 43 ∨ c.toNat = 45) := by omega
    have e45 : ¬ c.toNat = 45 := by omega
    have hm : Lib.parseMag (c :: r) = .ok u := by rw [Lib.parseMag, if_neg (by simp)]; exact hp
    simp only [Lib.atoiAll]
    rw [if_neg e43, hm]
    show (if ¬ c.toNat = 45 ∧ 9223372036854775808 ≤ u then Lib.NumEnd.range else if c.toNat = 45 ∧ 9223372036854775808 < u then Lib.NumEnd.range else Lib.NumEnd.ok (if c.toNat = 45 then -(u : Int) else u)) = _
    rw [if_neg (by omega), if_neg (by omega), if_neg e45]

end Go.Proofs.YtbaijmkghgnleaaGreatDoor

namespace Go.Proofs.YtbaijmkghgnleaaGreatDoor
open Go.RowKit
set_option linter.unusedVariables false

theorem nmTakeSnoc (s : ByteArray) (k : Nat) (h : k < s.size) : s.data.toList.take (k + 1) = s.data.toList.take k ++ [s[k]] := by
  rw [List.take_succ_eq_append_getElem (by simpa using h)]; rfl

theorem nmLen (s : ByteArray) : s.data.toList.length = s.size := Array.length_toList

theorem str_head (s : ByteArray) (h : 0 < s.size) : s.data.toList.head? = some s[0] := by
  have : s.data.toList = s[0] :: s.data.toList.drop 1 := by
    have h1 := nmTakeSnoc s 0 h
    have h2 := List.take_append_drop 1 s.data.toList
    rw [show (0 + 1) = 1 from rfl] at h1
    rw [h1] at h2
    simpa using h2.symm
  rw [this]; rfl

theorem nmPair {a b : Int} {x y : Bool} (h : a = b) (k : x = y) : Ending.returned (.tuple #[.int .i64 a, .bool x]) = .returned (.tuple #[.int .i64 b, .bool y]) := by rw [h, k]

/-- What is a number of at most ten digits. -/
def Good0 (l : List UInt8) : Prop := 1 ≤ l.length ∧ l.length ≤ 10 ∧ (l.length = 1 ∨ l.head? ≠ some 48) ∧ digs l

/-- What l11Number answers. -/
noncomputable def numM (l : List UInt8) (most : Int) : Int × Bool := @ite _ (Good0 l) (Classical.propDecidable _) ((val l : Int), decide ((val l : Int) ≤ most)) (0, false)

theorem numM_bad (l : List UInt8) (most : Int) (h : ¬ Good0 l) : numM l most = (0, false) := if_neg h
theorem numM_good (l : List UInt8) (most : Int) (h : Good0 l) : numM l most = ((val l : Int), decide ((val l : Int) ≤ most)) := if_pos h

theorem digs_take {l : List UInt8} {k : Nat} (h : digs l) : digs (l.take k) := fun c hc => h c (List.mem_of_mem_take hc)

theorem val_small (s : ByteArray) (k : Nat) (h10 : s.size ≤ 10) (hd : digs (s.data.toList.take k)) : val (s.data.toList.take k) ≤ 10000000000 := by
  have h1 := val_lt _ hd
  have h2 : (s.data.toList.take k).length ≤ 10 := by
    have := nmLen s
    simp only [List.length_take]
    omega
  have h3 : 10 ^ (s.data.toList.take k).length ≤ 10 ^ 10 := Nat.pow_le_pow_right (by decide) h2
  have h4 : 10 ^ 10 = 10000000000 := by decide
  omega

theorem good0_iff (l : List UInt8) : Good0 l ↔ ∃ u, u < 10000000000 ∧ l = Lib.decDigits u := by
  constructor
  · intro ⟨h1, h2, h3, h4⟩
    have h5 := val_lt _ h4
    have h6 : 10 ^ l.length ≤ 10 ^ 10 := Nat.pow_le_pow_right (by decide) h2
    have h7 : 10 ^ 10 = 10000000000 := by decide
    exact ⟨val l, by omega, (digits_of_val (l.length - 1) l (by omega) h4 h3).1.symm⟩
  · rintro ⟨u, hu, rfl⟩
    obtain ⟨i1, i2, i3, i4, _⟩ := val_of_digits u
    exact ⟨i3, decDigits_le 9 u (by omega), i4, i1⟩

theorem val_dec (u : Nat) : val (Lib.decDigits u) = u := (val_of_digits u).2.1

theorem parse_of_digs0 (l : List UInt8) : ∀ acc, digs l → l.foldl (fun n c => n * 10 + (c.toNat - 48)) acc < 10000000000 → Lib.parseUint10 acc l = .ok (l.foldl (fun n c => n * 10 + (c.toNat - 48)) acc) := by
  induction l with
  | nil => intro acc _ _; rfl
  | cons c l ih =>
    intro acc hd hb
    have hc := hd c (by simp)
    rw [List.foldl_cons] at hb ⊢
    have hg := fold_ge l (acc * 10 + (c.toNat - 48))
    rw [Lib.parseUint10, if_pos hc, if_neg (by omega), if_neg (by omega)]
    exact ih _ (fun x hx => hd x (by simp [hx])) hb

theorem atoi_of_dec (u : Nat) (hu : u < 10000000000) : Lib.atoiAll (Lib.decDigits u) = .ok (u : Int) := by
  obtain ⟨i1, i2, i3, _, _⟩ := val_of_digits u
  have hp := parse_of_digs0 (Lib.decDigits u) 0 i1 (by show val _ < _; omega)
  have hv : (Lib.decDigits u).foldl (fun n c => n * 10 + (c.toNat - 48)) 0 = u := i2
  rw [hv] at hp
  generalize Lib.decDigits u = l at *
  match l, i3 with
  | c :: r, _ =>
    have hc := i1 c (by simp)
    have e43 : ¬ (c.toNat = 43 ∨ c.toNat = 45) := by omega
    have e45 : ¬ c.toNat = 45 := by omega
    have hm : Lib.parseMag (c :: r) = .ok u := by rw [Lib.parseMag, if_neg (by simp)]; exact hp
    simp only [Lib.atoiAll]
    rw [if_neg e43, hm]
    show (if ¬ c.toNat = 45 ∧ 9223372036854775808 ≤ u then Lib.NumEnd.range else if c.toNat = 45 ∧ 9223372036854775808 < u then Lib.NumEnd.range else Lib.NumEnd.ok (if c.toNat = 45 then -(u : Int) else u)) = _
    rw [if_neg (by omega), if_neg (by omega), if_neg e45]

/-- What a reader with a bound answers. -/
noncomputable def upR (l : List UInt8) (most : Int) : Int × Bool := @ite _ (Good0 l ∧ (val l : Int) ≤ most) (Classical.propDecidable _) ((val l : Int), true) (0, false)

theorem upR_bad {l : List UInt8} {most : Int} (h : ¬ (Good0 l ∧ (val l : Int) ≤ most)) : upR l most = (0, false) := if_neg h
theorem upR_good {l : List UInt8} {most : Int} (h : Good0 l) (h2 : (val l : Int) ≤ most) : upR l most = ((val l : Int), true) := if_pos ⟨h, h2⟩

theorem upR_nothing {l : List UInt8} {most : Int} (h : ∀ v, Lib.atoiAll l ≠ .ok v) : upR l most = (0, false) := upR_bad fun hg => by
  obtain ⟨u, hu, rfl⟩ := (good0_iff l).1 hg.1
  exact h _ (atoi_of_dec u hu)

theorem upR_below {l : List UInt8} {most v : Int} (h : Lib.atoiAll l = .ok v) (hv : v < 0 ∨ most < v) : upR l most = (0, false) := upR_bad fun hg => by
  obtain ⟨u, hu, rfl⟩ := (good0_iff l).1 hg.1
  have h2 := hg.2
  rw [val_dec] at h2
  have e : Lib.NumEnd.ok v = Lib.NumEnd.ok (u : Int) := h.symm.trans (atoi_of_dec u hu)
  injection e with e
  omega

theorem upR_other {l : List UInt8} {most v : Int} (h : Lib.atoiAll l = .ok v) (hv : Lib.decDigits v.toNat ≠ l) : upR l most = (0, false) := upR_bad fun hg => by
  obtain ⟨u, hu, rfl⟩ := (good0_iff l).1 hg.1
  have e : Lib.NumEnd.ok v = Lib.NumEnd.ok (u : Int) := h.symm.trans (atoi_of_dec u hu)
  injection e with e
  subst e
  exact hv (by rw [Int.toNat_natCast])

theorem upR_same {l : List UInt8} {most v : Int} (hm : most < 10000000000) (h0 : 0 ≤ v) (h1 : v ≤ most) (hv : Lib.decDigits v.toNat = l) : upR l most = (v, true) := by
  obtain ⟨u, rfl⟩ := Int.eq_ofNat_of_zero_le h0
  rw [Int.toNat_natCast] at hv
  subst hv
  rw [upR_good ((good0_iff _).2 ⟨u, by omega, rfl⟩) (by rw [val_dec]; exact h1), val_dec]

/-- What is read of a number's own text. -/
theorem upR_back {u : Nat} {most : Int} (hm : most < 10000000000) (h : (u : Int) ≤ most) : upR (Lib.decDigits u) most = ((u : Int), true) := upR_same hm (by omega) h (by rw [Int.toNat_natCast])

/-- Where the bounded reader reads one, the plain one does, and the other way round. -/
theorem numM_upR (l : List UInt8) (most : Int) : (numM l most).2 = (upR l most).2 ∧ ((upR l most).2 = true → (numM l most).1 = (upR l most).1) := by
  by_cases hg : Good0 l
  · rw [numM_good l most hg]
    by_cases hv : (val l : Int) ≤ most
    · rw [upR_good hg hv]
      exact ⟨decide_eq_true hv, fun _ => rfl⟩
    · rw [upR_bad (fun h => hv h.2)]
      exact ⟨decide_eq_false hv, fun h => by cases h⟩
  · rw [numM_bad l most hg, upR_bad (fun h => hg h.1)]
    exact ⟨rfl, fun h => by cases h⟩

theorem numR_upR (l : List UInt8) : numR l = upR l 1000000000 := by
  by_cases hg : Good l
  · rw [numR, if_pos hg]
    obtain ⟨h1, h2, h3, h4, h5⟩ := hg
    rw [upR_good ⟨h1, h2, h3, h4⟩ (by omega)]
  · rw [numR, if_neg hg, upR_bad fun h => hg ⟨h.1.1, h.1.2.1, h.1.2.2.1, h.1.2.2.2, by omega⟩]

end Go.Proofs.YtbaijmkghgnleaaGreatDoor

namespace Go.Proofs.YtbaijmkghgnleaaGreatDoor
open Go.RowKit
set_option linter.unusedVariables false

/-- The op of a method, among the first ones; 0: none of them. -/
def opTo (m : List UInt8) : Nat → Int
  | 0 => 0
  | k + 1 => if (methT ((k + 1 : Nat) : Int)).toList == m then ((k + 1 : Nat) : Int) else opTo m k

theorem opTo_le (m : List UInt8) : ∀ k, 0 ≤ opTo m k ∧ opTo m k ≤ k
  | 0 => ⟨Int.le_refl _, Int.le_refl _⟩
  | k + 1 => by
    have := opTo_le m k
    unfold opTo
    split <;> omega

def rqZero : Int × ByteArray × Int := (0, ⟨#[]⟩, 0)

/-- A path's beginning. -/
def bU : List UInt8 := [47, 117, 112, 47]

/-- Whether a path is one. -/
def pathB (p : ByteArray) : Bool := decide (5 ≤ p.size) && ((p.extract 0 4).toList == bU) && idB (p.extract 4 p.size).data.toList

/-- What ReqOf answers. -/
noncomputable def reqOfR (xs : List Fld) : (Int × ByteArray × Int) × Int :=
  if formB xs = false then (rqZero, 1) else
  if opTo (valF bM xs).toList 6 = 0 then (rqZero, 2) else
  if pathB (valF bP xs) = false then (rqZero, 3) else
  if (nameT (opTo (valF bM xs).toList 6)).toList = [] then ((opTo (valF bM xs).toList 6, (valF bP xs).extract 4 (valF bP xs).size, 0), 0) else
  if (numM (valF (nameT (opTo (valF bM xs).toList 6)).toList xs).data.toList (mostR (opTo (valF bM xs).toList 6))).2 = false ∨ cntF (nameT (opTo (valF bM xs).toList 6)).toList xs ≠ 1 then (rqZero, 4) else
  ((opTo (valF bM xs).toList 6, (valF bP xs).extract 4 (valF bP xs).size, (numM (valF (nameT (opTo (valF bM xs).toList 6)).toList xs).data.toList (mostR (opTo (valF bM xs).toList 6))).1), 0)

theorem valF_size (nm : List UInt8) : ∀ xs : List Fld, (∀ f ∈ xs, f.1.size ≤ maxLen ∧ f.2.size ≤ maxLen) → (valF nm xs).size ≤ maxLen
  | [], _ => by show (0 : Nat) ≤ _; exact Nat.zero_le _
  | f :: r, h => by
    unfold valF
    split
    · exact (h f (by simp)).2
    · exact valF_size nm r fun g hg => h g (by simp [hg])

end Go.Proofs.YtbaijmkghgnleaaGreatDoor

namespace Go.Proofs.YtbaijmkghgnleaaGreatDoor
open Go.RowKit
set_option linter.unusedVariables false

theorem data_at (s : ByteArray) (k : Nat) (h : k < s.size) : s.data.toList.getD k 0 = s[k] := by
  have h2 : k < s.data.toList.length := by rw [Array.length_toList]; exact h
  rw [List.getD, List.getElem?_eq_getElem h2, Option.getD_some, Array.getElem_toList]
  rfl

theorem data_get (s : ByteArray) (k : Nat) (h : k < s.size) : s.data.toList[k]'(by rw [Array.length_toList]; exact h) = s[k] := by
  rw [Array.getElem_toList]
  rfl

theorem ret_bool' {a b : Bool} (h : a = b) : Ending.returned (.bool a) = .returned (.bool b) := by rw [h]

set_option maxRecDepth 10000 in
set_option maxHeartbeats 800000 in
theorem implId_any (s : ByteArray) (w : World) (hm : s.size ≤ 9223372036854775807) :
    Calls Tryz.prog 54 #[.string s] w fun e w' => e = .returned (.bool (idB s.data.toList)) ∧ Below w.heap.size w w' := by
  have HL : Hid (s.data.toList.length = s.size) := Array.length_toList
  by_cases hsz : 1 ≤ s.size ∧ s.size ≤ 8
  case neg =>
    have HF : Hid (idB s.data.toList = false) := idB_long (by rw [HL.out]; exact hsz)
    by_cases h0 : s.size < 1
    · have hi : (s.size : Int) < 1 := by omega
      clear hsz
      go_enter Tryz.func54, Tryz.ntmps54
      go_wp2_with fail
      go_ret
      exact ⟨ret_bool' HF.out.symm, Below.refl _ _⟩
    · have hi : ¬ (s.size : Int) < 1 := by omega
      have hj : (8 : Int) < (s.size : Int) := by omega
      clear hsz
      go_enter Tryz.func54, Tryz.ntmps54
      go_wp2_with fail
      go_ret
      exact ⟨ret_bool' HF.out.symm, Below.refl _ _⟩
  obtain ⟨hs1, hs8⟩ := hsz
  have hi : ¬ (s.size : Int) < 1 := by omega
  have hj : ¬ (8 : Int) < (s.size : Int) := by omega
  have hcv := Lib.run_convert_string_bytes (P := Tryz.prog) w 9 27 5 s (u := .string) Tryz.underlying9 Tryz.underlying27 Tryz.underlying5
  have HC : Hid (∀ j (hj : j < s.size), (Lib.bytesWorld w 5 s).cell? ⟨w.heap.size, j, none⟩ = some (.int .u8 (s[j].toNat : Int))) := fun j hj => by rw [Lib.bytesWorld_cell w 5 s j hj, data_at s j hj]
  have HB : Hid (Below w.heap.size w (Lib.bytesWorld w 5 s)) := Lib.bytesWorld_below w 5 s
  obtain ⟨W1, hW1⟩ : ∃ W1, Lib.bytesWorld w 5 s = W1 := ⟨_, rfl⟩
  rw [hW1] at hcv HC HB
  clear hW1
  go_enter Tryz.func54, Tryz.ntmps54
  go_wp2_with fail
  go_loop [16] (fun v => ∃ k : Nat, k ≤ s.size ∧ v = .int .i64 k ∧ Hid (∀ j (hj : j < s.data.toList.length), j < k → idC s.data.toList[j] = true)) (fun v => s.size - (intOf v).toNat)
  case atStart => exact ⟨0, Nat.zero_le _, rfl, fun j _ hj => absurd hj (Nat.not_lt_zero _)⟩
  case round =>
    obtain ⟨k, hk, rfl, HN⟩ := hrel
    by_cases hlt : k < s.size
    · have hki : (k : Int) < (s.size : Int) := by omega
      have hc := HC.out k hlt
      have hc0 : (0 : Int) ≤ (s[k].toNat : Int) := by omega
      have hc1 : (s[k].toNat : Int) ≤ 255 := by have := s[k].toNat_lt; omega
      have HA : Hid (idC (s.data.toList[k]'(by rw [Array.length_toList]; exact hlt)) = ((decide (97 ≤ s[k].toNat) && decide (s[k].toNat ≤ 122)) || (decide (48 ≤ s[k].toNat) && decide (s[k].toNat ≤ 57)))) := by show _ = _; rw [data_get s k hlt, idC]
      have HG : Hid (idC (s.data.toList[k]'(by rw [Array.length_toList]; exact hlt)) = true → ∀ j (hj : j < s.data.toList.length), j < k + 1 → idC s.data.toList[j] = true) := fun h j hj hjk => by
        by_cases e : j = k
        · subst e; exact h
        · exact HN.out j hj (by omega)
      have HBd : Hid (idC (s.data.toList[k]'(by rw [Array.length_toList]; exact hlt)) = false → idB s.data.toList = false) := fun h => idB_bad (by rw [Array.length_toList]; exact hlt) h
      have HS : Hid (idC (s.data.toList[k]'(by rw [Array.length_toList]; exact hlt)) = true ∧ ((97 ≤ (s[k].toNat : Int) ∧ (s[k].toNat : Int) ≤ 122) ∨ (48 ≤ (s[k].toNat : Int) ∧ (s[k].toNat : Int) ≤ 57)) ∨ idC (s.data.toList[k]'(by rw [Array.length_toList]; exact hlt)) = false ∧ ¬ (97 ≤ (s[k].toNat : Int) ∧ (s[k].toNat : Int) ≤ 122) ∧ ¬ (48 ≤ (s[k].toNat : Int) ∧ (s[k].toNat : Int) ≤ 57)) := by
        show _ ∨ _
        rw [HA.out]
        by_cases h1 : 97 ≤ s[k].toNat ∧ s[k].toNat ≤ 122
        · exact .inl ⟨by rw [decide_eq_true h1.1, decide_eq_true h1.2]; rfl, .inl (by omega)⟩
        · by_cases h2 : 48 ≤ s[k].toNat ∧ s[k].toNat ≤ 57
          · exact .inl ⟨by rw [decide_eq_true h2.1, decide_eq_true h2.2]; simp, .inr (by omega)⟩
          · refine .inr ⟨?_, by omega, by omega⟩
            rw [Bool.or_eq_false_iff, Bool.and_eq_false_iff, Bool.and_eq_false_iff]
            simp only [decide_eq_false_iff_not]
            omega
      clear HA HC HN
      generalize (s[k].toNat : Int) = c at *
      rcases HS.out with ⟨hok, hr⟩ | ⟨hno, hr1, hr2⟩
      · have HT : Hid (∀ j (hj : j < s.data.toList.length), j < k + 1 → idC s.data.toList[j] = true) := HG.out hok
        clear HG HBd HS hok
        rcases hr with ⟨r1, r2⟩ | ⟨r1, r2⟩
        · have q1 : ¬ c < 97 := by omega
          have q2 : ¬ (122 : Int) < c := by omega
          go_wp2_with fail
          go_round
          case rel => exact ⟨k + 1, by omega, by go_num, HT⟩
          case measure => simp [intOf]; omega
        · have q1 : c < 97 := by omega
          have q3 : ¬ c < 48 := by omega
          have q4 : ¬ (57 : Int) < c := by omega
          go_wp2_with fail
          go_round
          case rel => exact ⟨k + 1, by omega, by go_num, HT⟩
          case measure => simp [intOf]; omega
      · have HF : Hid (idB s.data.toList = false) := HBd.out hno
        clear HG HBd HS hno
        by_cases q1 : c < 97
        · by_cases q3 : c < 48
          · clear hr1 hr2
            go_wp2_with fail
            go_ret
            exact ⟨ret_bool' HF.out.symm, HB.out⟩
          · have q4 : (57 : Int) < c := by omega
            clear hr1 hr2
            go_wp2_with fail
            go_ret
            exact ⟨ret_bool' HF.out.symm, HB.out⟩
        · have q2 : (122 : Int) < c := by omega
          have q3 : ¬ c < 48 := by omega
          have q4 : (57 : Int) < c := by omega
          clear hr1 hr2
          go_wp2_with fail
          go_ret
          exact ⟨ret_bool' HF.out.symm, HB.out⟩
    · have hkl : k = s.size := by omega
      subst hkl
      have HE : Hid (idB s.data.toList = true) := by
        show _ = _
        rw [idB_good fun j hj => HN.out j hj (by rw [HL.out] at hj; exact hj), HL.out, decide_eq_true_eq]
        omega
      clear HN
      go_wp2_with fail
      go_ret
      exact ⟨ret_bool' HE.out.symm, HB.out⟩

end Go.Proofs.YtbaijmkghgnleaaGreatDoor

namespace Go.Proofs.YtbaijmkghgnleaaGreatDoor
open Go.RowKit

/-- A world in which all that lay in w is as it was. -/
structure Past (w : World) where
  world : World
  below : Below w.heap.size w world

theorem wp_region_past {P : Program} {id : Nat} {Q : Exit → Act → World → Prop} {a : Act} {w : World} {l : List Oper} (hm : P.follows .mixedOrders = true) (hB : Region.lexB .any l.toArray = true)
    (h : wpQuiet P l.toArray (fun w' => ∃ p : Past w, w' = p.world) (fun a' => ∀ w', (∃ p : Past w, w' = p.world) → Q .normal a' w') l a) : (Code.region id l.toArray true).wp P Q a w :=
  wp_region_quiet (C := fun w' => ∃ p : Past w, w' = p.world) hm hB ⟨⟨w.drew, (Below.refl _ _).drew⟩, rfl⟩ (by simpa using h)

theorem calls_past {P : Program} {f : FuncId} {args : Array Value} {w : World} {p : Past w} {v : Value}
    (h : Calls P f args p.world fun e w' => e = .returned v ∧ Below p.world.heap.size p.world w') : Calls P f args p.world fun e w'' => e = .returned v ∧ ∃ p : Past w, w'' = p.world :=
  h.mono fun _ w' ⟨he, hb⟩ => ⟨he, ⟨w', p.below.trans (hb.mono p.below.size)⟩, rfl⟩

/-- One operation that is wanted. -/
theorem quiet_do {P : Program} {ops : Array Oper} {C : World → Prop} {Q : Act → Prop} {a : Act} {o : Oper} {rest : List Oper} (hw : Region.wanted o (yielded ops a.tmps) = true)
    (h : ∀ K : Act → Prop, (∀ a, wpQuiet P ops C Q rest a → K a) → o.quiet P a C K) : wpQuiet P ops C Q (o :: rest) a :=
  wpQuiet_step fun K hK => by rw [if_pos hw]; exact h K hK

/-- One that is not. -/
theorem quiet_skip {P : Program} {ops : Array Oper} {C : World → Prop} {Q : Act → Prop} {a : Act} {o : Oper} {rest : List Oper} (hw : Region.wanted o (yielded ops a.tmps) = false)
    (h : ∀ K : Act → Prop, (∀ a, wpQuiet P ops C Q rest a → K a) → K (a.put o.dst undef)) : wpQuiet P ops C Q (o :: rest) a :=
  wpQuiet_step fun K hK => by rw [if_neg (by rw [hw]; simp)]; exact h K hK

/-- One that is not: what is behind it. -/
theorem quiet_past {P : Program} {ops : Array Oper} {C : World → Prop} {Q : Act → Prop} {a : Act} {o : Oper} {rest : List Oper} (hw : Region.wanted o (yielded ops a.tmps) = false) (h : wpQuiet P ops C Q rest (a.put o.dst undef)) : wpQuiet P ops C Q (o :: rest) a :=
  quiet_skip hw fun _ hK => hK _ h

/-- As wp_region_past, the region's row hidden behind a name: then what an unwanted operation would do is not looked at. -/
theorem wp_region_pastO {P : Program} {id : Nat} {Q : Exit → Act → World → Prop} {a : Act} {w : World} {l : List Oper} (hm : P.follows .mixedOrders = true) (hB : Region.lexB .any l.toArray = true)
    (h : ∀ ops : Array Oper, Hid (ops = l.toArray) → wpQuiet P ops (fun w' => ∃ p : Past w, w' = p.world) (fun a' => ∀ w', (∃ p : Past w, w' = p.world) → Q .normal a' w') l a) : (Code.region id l.toArray true).wp P Q a w :=
  wp_region_past hm hB (h _ rfl)

theorem past_some (w : World) : Nonempty (Past w) := ⟨⟨w, Below.refl _ _⟩⟩

theorem Past.cell {w : World} (p : Past w) {a : Addr} {v : Value} (hb : a.block < w.heap.size) (h : w.cell? a = some v) : p.world.cell? a = some v := (p.below.cell hb).trans h

end Go.Proofs.YtbaijmkghgnleaaGreatDoor

namespace Go.Proofs.YtbaijmkghgnleaaGreatDoor
open Go.RowKit
set_option linter.unusedVariables false

/-- The greatest number of an op as the program's table has it; 0: it has none. -/
def mostT (k : Nat) : Int := if k = 1 ∨ k = 3 then 1000000000 else if k = 4 then 4294967295 else 0

/-- The variable holds the table: seven rows of a word, a name and a bound. -/
def MethT (w : World) : Prop := 0 < w.heap.size ∧ ∀ k : Nat, k ≤ 6 → w.cell? ⟨0, k * 3, none⟩ = some (.string (methT (k : Int))) ∧ w.cell? ⟨0, k * 3 + 1, none⟩ = some (.string (nameT (k : Int))) ∧ w.cell? ⟨0, k * 3 + 2, none⟩ = some (.int .i64 (mostT k))

theorem MethT.below {w W : World} (h : MethT w) (hb : Below w.heap.size w W) : MethT W :=
  ⟨Nat.lt_of_lt_of_le h.1 hb.size, fun k hk => ⟨(hb.cell (p := ⟨0, k * 3, none⟩) h.1).trans (h.2 k hk).1, (hb.cell (p := ⟨0, k * 3 + 1, none⟩) h.1).trans (h.2 k hk).2.1, (hb.cell (p := ⟨0, k * 3 + 2, none⟩) h.1).trans (h.2 k hk).2.2⟩⟩

theorem MethT.of {w0 w W : World} (h : MethT w0) (hb : Below w0.heap.size w0 W) : MethT W := h.below hb

theorem reqB_tab (k : Nat) (h1 : 1 ≤ k) (h6 : k ≤ 6) (s : List UInt8) (n : Int) : reqB (k : Int) s n = (idB s && (decide (0 ≤ n) && decide (n ≤ mostT k))) := by
  have hk : k = 1 ∨ k = 2 ∨ k = 3 ∨ k = 4 ∨ k = 5 ∨ k = 6 := by omega
  have hd : decide (1 ≤ (k : Int) ∧ (k : Int) ≤ 6) = true := decide_eq_true (by omega)
  rw [reqB, hd, Bool.true_and]
  congr 1
  rw [Bool.eq_iff_iff]
  rcases hk with rfl | rfl | rfl | rfl | rfl | rfl
  all_goals
    simp [mostR, mostT]
    try omega

set_option maxRecDepth 10000 in
set_option maxHeartbeats 3200000 in
theorem implReqOk_any (op : Int) (s : ByteArray) (n : Int) (w : World) (hm : s.size ≤ 9223372036854775807) (ht : MethT w) :
    Calls Tryz.prog 29 #[.agg #[.int .i64 op, .string s, .int .i64 n]] w fun e w' => e = .returned (.bool (reqB op s.data.toList n)) ∧ Below w.heap.size w w' := by
  have HB0 : Hid (Below w.heap.size w (w.alloc (.cells #[.int .i64 op, .string s, .int .i64 n] 36))) := (Below.refl _ _).alloc (Nat.le_refl _) _
  have HX0 : Hid (Box3 (w.alloc (.cells #[.int .i64 op, .string s, .int .i64 n] 36)) w.heap.size 36 (.int .i64 op) (.string s) (.int .i64 n)) := Box3.new _ _ _ _ _
  have HT : Hid (MethT w) := ht
  clear ht
  by_cases hop : 1 ≤ op ∧ op ≤ 6
  case neg =>
    have HF : Hid (reqB op s.data.toList n = false) := by show _ = _; rw [reqB, decide_eq_false hop]; rfl
    by_cases h1 : op < 1
    · clear hop
      go_enter Tryz.func29, Tryz.ntmps29
      go_wp2_with fail
      go_ret
      exact ⟨ret_bool' HF.out.symm, HB0.out⟩
    · have h6 : (6 : Int) < op := by omega
      clear hop
      go_enter Tryz.func29, Tryz.ntmps29
      go_wp2_with fail
      go_ret
      exact ⟨ret_bool' HF.out.symm, HB0.out⟩
  obtain ⟨k, rfl⟩ := Int.eq_ofNat_of_zero_le (show 0 ≤ op by omega)
  have hk1 : 1 ≤ k := by omega
  have hk6 : k ≤ 6 := by omega
  have q1 : ¬ (k : Int) < 1 := by omega
  have q6 : ¬ (6 : Int) < (k : Int) := by omega
  have HR : Hid (reqB (k : Int) s.data.toList n = (idB s.data.toList && (decide (0 ≤ n) && decide (n ≤ mostT k)))) := reqB_tab k hk1 hk6 _ _
  clear hop
  go_enter Tryz.func29, Tryz.ntmps29
  go_wp2_with fail
  obtain ⟨w1, hw1⟩ : ∃ w1, w.alloc (.cells #[.int .i64 (k : Int), .string s, .int .i64 n] 36) = w1 := ⟨_, rfl⟩
  rw [hw1] at HB0 HX0 ⊢
  clear hw1
  have HT1 : Hid (MethT w1) := HT.out.below HB0.out
  obtain ⟨c0, c1, c2⟩ := HX0.out.cells
  have hlt1 : w.heap.size < w1.heap.size := HX0.out.lt
  have x0 : ∀ P : Past w1, P.world.cell? ⟨w.heap.size, 0, none⟩ = some (.int .i64 (k : Int)) := fun P => P.cell hlt1 c0
  have x1 : ∀ P : Past w1, P.world.cell? ⟨w.heap.size, 1, none⟩ = some (.string s) := fun P => P.cell hlt1 c1
  have x2 : ∀ P : Past w1, P.world.cell? ⟨w.heap.size, 2, none⟩ = some (.int .i64 n) := fun P => P.cell hlt1 c2
  have x3 : ∀ P : Past w1, P.world.cell? ⟨0, k * 3 + 2, none⟩ = some (.int .i64 (mostT k)) := fun P => P.cell HT1.out.1 (HT1.out.2 k hk6).2.2
  have HI : Hid (∀ W, Calls Tryz.prog 54 #[.string s] W fun e w' => e = .returned (.bool (idB s.data.toList)) ∧ Below W.heap.size W w') := fun W => implId_any s W hm
  have hne := past_some w1
  have tk : (0 : Int) ≤ (k : Int) := by omega
  have tk7 : (k : Int) < 7 := by omega
  clear c0 c1 c2 hlt1 HX0 HT HT1
  generalize idB s.data.toList = b at *
  generalize mostT k = m at *
  cases b
  · refine wp_region_pastO (by kernel_rfl) (by kernel_rfl) fun ops HO => ?_
    iterate 4 (quiet_step ((first | (go_at_call 54; with_reducible exact calls_past (HI.out _)) | fail)))
    iterate 3 (refine quiet_past (by rw [HO.out]; kernel_rfl) ?_)
    iterate 2 (quiet_step ((first | (go_at_call 54; with_reducible exact calls_past (HI.out _)) | fail)))
    iterate 8 (refine quiet_past (by rw [HO.out]; kernel_rfl) ?_)
    repeat (quiet_step ((first | (go_at_call 54; with_reducible exact calls_past (HI.out _)) | fail)))
    refine wpQuiet_nil ?_
    rintro _ ⟨z, rfl⟩
    have HZ : Hid (Below w.heap.size w z.world) := HB0.out.trans (z.below.mono HB0.out.size)
    go_wp2_with fail
    go_ret
    exact ⟨ret_bool' (by rw [HR.out]; rfl), HZ.out⟩
  by_cases hn : 0 ≤ n
  · have HR2 : Hid (reqB (k : Int) s.data.toList n = decide (n ≤ m)) := by show _ = _; rw [HR.out, decide_eq_true hn]; rfl
    have dn : decide (0 ≤ n) = true := by simpa using hn
    refine wp_region_pastO (by kernel_rfl) (by kernel_rfl) fun ops HO => ?_
    iterate 4 (quiet_step ((first | (go_at_call 54; with_reducible exact calls_past (HI.out _)) | fail)))
    iterate 3 (refine quiet_do (by rw [HO.out]; kernel_rfl) (fun K hK => ?_); go_simp; refine hK _ ?_; clear hK K)
    iterate 2 (quiet_step ((first | (go_at_call 54; with_reducible exact calls_past (HI.out _)) | fail)))
    iterate 8 (refine quiet_do (by rw [HO.out]; kernel_rfl) (fun K hK => ?_); go_simp; refine hK _ ?_; clear hK K)
    repeat (quiet_step ((first | (go_at_call 54; with_reducible exact calls_past (HI.out _)) | fail)))
    refine wpQuiet_nil ?_
    rintro _ ⟨z, rfl⟩
    have HZ : Hid (Below w.heap.size w z.world) := HB0.out.trans (z.below.mono HB0.out.size)
    go_wp2_with fail
    go_ret
    exact ⟨ret_bool' HR2.out.symm, HZ.out⟩
  · have HR2 : Hid (reqB (k : Int) s.data.toList n = false) := by show _ = _; rw [HR.out, decide_eq_false hn]; rfl
    have dn : decide (0 ≤ n) = false := by simpa using hn
    have dn2 : (0 ≤ n) = False := by simpa using hn
    refine wp_region_pastO (by kernel_rfl) (by kernel_rfl) fun ops HO => ?_
    iterate 4 (quiet_step ((first | (go_at_call 54; with_reducible exact calls_past (HI.out _)) | fail)))
    iterate 3 (refine quiet_do (by rw [HO.out]; kernel_rfl) (fun K hK => ?_); go_simp; refine hK _ ?_; clear hK K)
    iterate 2 (quiet_step ((first | (go_at_call 54; with_reducible exact calls_past (HI.out _)) | fail)))
    iterate 8 (refine quiet_past (by rw [HO.out]; kernel_rfl) ?_)
    repeat (quiet_step ((first | (go_at_call 54; with_reducible exact calls_past (HI.out _)) | fail)))
    refine wpQuiet_nil ?_
    rintro _ ⟨z, rfl⟩
    have HZ : Hid (Below w.heap.size w z.world) := HB0.out.trans (z.below.mono HB0.out.size)
    go_wp2_with fail
    go_ret
    exact ⟨ret_bool' HR2.out.symm, HZ.out⟩

end Go.Proofs.YtbaijmkghgnleaaGreatDoor

namespace Go.Proofs
open Go.Shelf
def Tryz.laysM171_ren : Go.Shelf.Ren := ⟨fun | 171 => 57 | 243 => 76 | 246 => 87 | 283 => 105 | 284 => 106 | 285 => 107 | 286 => 108 | 129 => 118 | 317 => 117 | 318 => 119 | 319 => 120 | 320 => 121 | 337 => 123 | 338 => 124 | n => n, fun | 3 => 3 | 9 => 9 | 2 => 2 | 4 => 4 | 171 => 130 | 0 => 0 | 53 => 131 | 37 => 27 | 5 => 5 | 173 => 134 | 212 => 148 | 51 => 149 | 20 => 20 | 213 => 150 | 46 => 94 | 232 => 157 | 233 => 158 | n => n, fun | 17 => 1 | 18 => 2 | 19 => 3 | n => n⟩
theorem Tryz.laysM171 : Go.Proofs.LaysM.n171 Tryz.prog Tryz.laysM171_ren := {
  mixed := by kernel_rfl
  f129 := Tryz.func118.trans (congrArg some (by kernel_rfl))
  f171 := Tryz.func57.trans (congrArg some (by kernel_rfl))
  f243 := Tryz.func76.trans (congrArg some (by kernel_rfl))
  f246 := Tryz.func87.trans (congrArg some (by kernel_rfl))
  f283 := Tryz.func105.trans (congrArg some (by kernel_rfl))
  f284 := Tryz.func106.trans (congrArg some (by kernel_rfl))
  f285 := Tryz.func107.trans (congrArg some (by kernel_rfl))
  f286 := Tryz.func108.trans (congrArg some (by kernel_rfl))
  f317 := Tryz.func117.trans (congrArg some (by kernel_rfl))
  f318 := Tryz.func119.trans (congrArg some (by kernel_rfl))
  f319 := Tryz.func120.trans (congrArg some (by kernel_rfl))
  f320 := Tryz.func121.trans (congrArg some (by kernel_rfl))
  f337 := Tryz.func123.trans (congrArg some (by kernel_rfl))
  f338 := Tryz.func124.trans (congrArg some (by kernel_rfl))
  t0 := Tryz.underlying0
  a0 := Tryz.isAgg0
  z0 := Tryz.sizeOf0
  v0 := Tryz.zeroValue0
  t2 := Tryz.underlying2
  a2 := Tryz.isAgg2
  z2 := Tryz.sizeOf2
  v2 := Tryz.zeroValue2
  t3 := Tryz.underlying3
  a3 := Tryz.isAgg3
  z3 := Tryz.sizeOf3
  v3 := Tryz.zeroValue3
  t4 := Tryz.underlying4
  a4 := Tryz.isAgg4
  z4 := Tryz.sizeOf4
  v4 := Tryz.zeroValue4
  t5 := Tryz.underlying5
  a5 := Tryz.isAgg5
  z5 := Tryz.sizeOf5
  v5 := Tryz.zeroValue5
  t9 := Tryz.underlying9
  a9 := Tryz.isAgg9
  z9 := Tryz.sizeOf9
  v9 := Tryz.zeroValue9
  t20 := Tryz.underlying20
  a20 := Tryz.isAgg20
  z20 := Tryz.sizeOf20
  v20 := Tryz.zeroValue20
  t37 := Tryz.underlying27
  a37 := Tryz.isAgg27
  z37 := Tryz.sizeOf27
  v37 := Tryz.zeroValue27
  t46 := Tryz.underlying94
  a46 := Tryz.isAgg94
  z46 := Tryz.sizeOf94
  v46 := Tryz.zeroValue94
  t51 := Tryz.underlying149
  a51 := Tryz.isAgg149
  z51 := Tryz.sizeOf149
  v51 := Tryz.zeroValue149
  t53 := Tryz.underlying131
  a53 := Tryz.isAgg131
  z53 := Tryz.sizeOf131
  v53 := Tryz.zeroValue131
  t171 := Tryz.underlying130
  a171 := Tryz.isAgg130
  z171 := Tryz.sizeOf130
  v171 := Tryz.zeroValue130
  t173 := Tryz.underlying134
  a173 := Tryz.isAgg134
  z173 := Tryz.sizeOf134
  v173 := Tryz.zeroValue134
  t212 := Tryz.underlying148
  a212 := Tryz.isAgg148
  z212 := Tryz.sizeOf148
  v212 := Tryz.zeroValue148
  t213 := Tryz.underlying150
  a213 := Tryz.isAgg150
  z213 := Tryz.sizeOf150
  t232 := Tryz.underlying157
  a232 := Tryz.isAgg157
  z232 := Tryz.sizeOf157
  v232 := Tryz.zeroValue157
  t233 := Tryz.underlying158
  a233 := Tryz.isAgg158
  z233 := Tryz.sizeOf158
  v233 := Tryz.zeroValue158
  g17 := by kernel_rfl
  g18 := by kernel_rfl
  g19 := by kernel_rfl
  i0 := by kernel_rfl
  i2 := by kernel_rfl
  i3 := by kernel_rfl
  i4 := by kernel_rfl
  i5 := by kernel_rfl
  i9 := by kernel_rfl
  i20 := by kernel_rfl
  i37 := by kernel_rfl
  i46 := by kernel_rfl
  i51 := by kernel_rfl
  i53 := by kernel_rfl
  i171 := by kernel_rfl
  i173 := by kernel_rfl
  i212 := by kernel_rfl
  i232 := by kernel_rfl
  i233 := by kernel_rfl
  m17 := by kernel_rfl
  m18 := by kernel_rfl
  m19 := by kernel_rfl }
open Go.RowKit Go.Sort Go.Lib in
theorem Tryz.strconv_Itoa (n : Int) (h0 : -9223372036854775808 ≤ n) (h1 : n ≤ 9223372036854775807) (w : World) (htab : Lib.TabIs Tryz.prog w "internal/strconv.uint64pow10" .u64 Lib.pow10Tab) :
    Calls Tryz.prog 57 #[.int .i64 n] w fun e w' => e = .returned (.string ⟨(Lib.itoa n).toArray⟩) ∧ ∃ k os, w' = grow (w.drewN k) os := Any.strconv_Itoa Tryz.laysM171 n h0 h1 w htab
end Go.Proofs

namespace Go.Proofs.YtbaijmkghgnleaaGreatDoor
open Go.RowKit
set_option linter.unusedVariables false

/-- The library's table is there. -/
def TabT (w : World) : Prop := Lib.TabIs Tryz.prog w "internal/strconv.uint64pow10" .u64 Lib.pow10Tab

theorem TabT.below {w W : World} (h : TabT w) (hb : Below w.heap.size w W) : TabT W := (Lib.tabBelow_of_tabIs h) W hb

/-- The library's table and its two errors are there. -/
def StdT (w : World) : Prop :=
  Lib.TabIs Tryz.prog w "internal/strconv.uint64pow10" .u64 Lib.pow10Tab ∧ (∃ t p, w.var? Tryz.prog "strconv.ErrSyntax" = some #[.iface t p]) ∧ ∃ t p, w.var? Tryz.prog "strconv.ErrRange" = some #[.iface t p]

theorem var_stays {P : Program} {w w' : World} {n : String} {cs : Array Value} (h : w.var? P n = some cs) (hb : Below w.heap.size w w') : w'.var? P n = some cs := by
  cases hg : P.globalNamed n with
  | none => simp [World.var?, hg] at h
  | some g =>
    have hlt : g < w.heap.size := by
      cases hn : w.heap[g]? with
      | some o => exact (Array.getElem?_eq_some_iff.1 hn).1
      | none =>
        simp [World.var?, hg, hn] at h
    exact var?_below hb hg hlt h

theorem StdT.below {w W : World} (h : StdT w) (hb : Below w.heap.size w W) : StdT W := by
  obtain ⟨h1, ⟨t, p, h2⟩, t', p', h3⟩ := h
  exact ⟨(Lib.tabBelow_of_tabIs h1) W hb, ⟨t, p, var_stays h2 hb⟩, t', p', var_stays h3 hb⟩

theorem below_of_either {w w1 : World} {e : TypeId} (h : w1 = w ∨ ∃ t, w1 = Lib.bytesWorld w e t) : Below w.heap.size w w1 := by
  rcases h with rfl | ⟨t, rfl⟩
  · exact Below.refl _ _
  · exact Lib.bytesWorld_below w e t

theorem mk_toList (l : List UInt8) : (⟨l.toArray⟩ : ByteArray).toList = l := by rw [Lib.toList_data]

end Go.Proofs.YtbaijmkghgnleaaGreatDoor
