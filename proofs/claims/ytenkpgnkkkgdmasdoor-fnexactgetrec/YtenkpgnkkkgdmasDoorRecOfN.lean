/- The record that the program tells of bytes, what is not there as noughts; no program in it. -/
import Derived.Test.YtenkpgnkkkgdmasDoorRecN
import Derived.Test.YtenkpgnkkkgdmasDoorBigB
namespace Go.Proofs.YtenkpgnkkkgdmasDoor
open Go.RowKit
set_option linter.unusedVariables false

theorem gbrN (zs : List Int) (at_ k : Nat) (h1 : 1 ≤ k) (h7 : k ≤ 7) : gbr zs (at_ : Int) (k : Int) = if at_ + k ≤ zs.length then (gb ((zs.drop at_).take k), true) else (0, false) := by
  split
  · rename_i h
    rw [gbr, if_pos ⟨by omega, by omega, by omega, by omega⟩, Int.toNat_natCast, Int.toNat_natCast]
  · rename_i h
    rw [gbr, if_neg (by omega)]

theorem gbr_at {zs : List Int} {at_ k : Nat} (h1 : 1 ≤ k) (h7 : k ≤ 7) (h : at_ + k ≤ zs.length) : (gbr zs (at_ : Int) (k : Int)).1 = gb ((zs.drop at_).take k) := by rw [gbrN _ _ _ h1 h7, if_pos h]

/-- How many bytes are told behind a place, and these. -/
def shortN (l : List Int) (T : Nat) : Nat := (gbr l (T : Int) ((1 : Nat) : Int)).1.toNat
def shortL (l : List Int) (T : Nat) : List Int := if T + 1 + shortN l T ≤ l.length then (l.drop (T + 1)).take (shortN l T) else []

theorem gb_one (l : List Int) (hr : ∀ x ∈ l, 0 ≤ x ∧ x ≤ 255) (k : Nat) : 0 ≤ gb ((l.drop k).take 1) ∧ gb ((l.drop k).take 1) ≤ 255 := by
  have h := gb_bound ((l.drop k).take 1) (fun n hn => hr n (List.mem_of_mem_drop (List.mem_of_mem_take hn)))
  have hl : ((l.drop k).take 1).length ≤ 1 := by simp; omega
  have hp : (256 : Nat) ^ ((l.drop k).take 1).length ≤ 256 ^ 1 := Nat.pow_le_pow_right (by omega) hl
  omega

theorem shortN_is (l : List Int) (hr : ∀ x ∈ l, 0 ≤ x ∧ x ≤ 255) (T : Nat) : (gbr l (T : Int) ((1 : Nat) : Int)).1 = (shortN l T : Int) ∧ shortN l T ≤ 255 := by
  have h := gb_one l hr T
  rw [shortN, gbrN l T 1 (by omega) (by omega)]
  split
  · dsimp only
    omega
  · simp

theorem shortL_len (l : List Int) (T : Nat) : (shortL l T).length = if T + 1 + shortN l T ≤ l.length then shortN l T else 0 := by
  rw [shortL]
  split
  · simp
    omega
  · rfl

/-- The record that is told. -/
def looseR (l : List Int) : R :=
  ⟨(gbr l ((0 : Nat) : Int) ((3 : Nat) : Int)).1, (gbr l ((3 : Nat) : Int) ((2 : Nat) : Int)).1, (gbr l ((5 : Nat) : Int) ((1 : Nat) : Int)).1, txU (shortL l 6), (gbr l ((7 + shortN l 6 : Nat) : Int) ((4 : Nat) : Int)).1, shortL l (11 + shortN l 6)⟩

/-- Where all is there it is that one. -/
theorem loose_is {l : List Int} (h : 16 + idN l + dataN l ≤ l.length) : looseR l = parseR l := by
  have e6 : shortN l 6 = idN l := by rw [shortN, gbr_at (by omega) (by omega) (by omega), idN]
  have e7 : shortL l 6 = (l.drop 7).take (idN l) := by rw [shortL, e6, if_pos (by omega)]
  have e11 : shortN l (11 + idN l) = dataN l := by rw [shortN, gbr_at (by omega) (by omega) (by omega), dataN]
  have e12 : shortL l (11 + idN l) = (l.drop (12 + idN l)).take (dataN l) := by
    rw [shortL, e11, if_pos (by omega), show 11 + idN l + 1 = 12 + idN l by omega]
  rw [looseR, e6, e7, e12, parseR, gbr_at (by omega) (by omega) (by omega), gbr_at (by omega) (by omega) (by omega), gbr_at (by omega) (by omega) (by omega), gbr_at (by omega) (by omega) (by omega), List.drop_zero]

theorem loose_some {s : ByteArray} (h1 : (looseR (txI s)).ok = true) (h2 : (looseR (txI s)).put = txI s) : recOf s = some (looseR (txI s)) := recOf_iff.2 ⟨h1, h2⟩

theorem loose_none {s : ByteArray} (h : ¬ ((looseR (txI s)).ok = true ∧ (looseR (txI s)).put = txI s)) : recOf s = none := by
  cases hr : recOf s with
  | none => rfl
  | some r =>
    have hl := recOf_len (s := s) (by rw [hr]; exact Option.some_ne_none r)
    have e := loose_is (l := txI s) (by rw [txI_len]; omega)
    have hp := recOf_iff.1 hr
    have : recOf s = some (parseR (txI s)) := by
      rw [recOf] at hr ⊢
      split
      · rfl
      · rename_i hn
        rw [if_neg hn] at hr
        cases hr
    rw [hr] at this
    injection this with this
    exact absurd (by rw [e, ← this]; exact hp) h

theorem recOf_long {s : ByteArray} (h : 48 < s.size) : recOf s = none := by
  cases hr : recOf s with
  | none => rfl
  | some r =>
    have hl := recOf_len (s := s) (by rw [hr]; exact Option.some_ne_none r)
    omega

end Go.Proofs.YtenkpgnkkkgdmasDoor
