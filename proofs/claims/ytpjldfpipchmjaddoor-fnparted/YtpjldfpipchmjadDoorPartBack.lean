/- The parts of a block, gathered one by one, are the block again: the model. -/
import Derived.Test.YtpjldfpipchmjadDoorPartNum
import Derived.Test.YtpjldfpipchmjadDoorFeedNum
namespace Go.Proofs.YtpjldfpipchmjadDoor
open Go.RowKit
set_option linter.unusedVariables false

/-- What is gathered of the first j parts. -/
def gotG (m : Nat) (en : Bool) (zs : List Int) (j : Nat) : Int × Bool × List Int := if j = 0 then (0, false, []) else (3, en, zs.take (j * m))

theorem pf_cases (en : Bool) (j n : Nat) : pf en j n = 5 ∨ pf en j n = 4 ∨ pf en j n = 1 ∨ pf en j n = 0 := by
  unfold pf
  split <;> split <;> simp

theorem pf_pad (en : Bool) (j n : Nat) : (bits .and .i64 (pf en j n) 8 != 0) = false ∧ (bits .and .i64 (pf en j n) 32 != 0) = false := by
  rcases pf_cases en j n with h | h | h | h <;> rw [h] <;> exact ⟨by kernel_rfl, by kernel_rfl⟩

theorem pf_head (en : Bool) (j n : Nat) : (bits .and .i64 (pf en j n) 4 != 0) = decide (j + 1 = n) := by
  unfold pf
  by_cases h : j + 1 = n
  · rw [if_pos h, decide_eq_true h]
    split <;> kernel_rfl
  · rw [if_neg h, decide_eq_false h]
    split <;> kernel_rfl

theorem pf_end (en : Bool) (n : Nat) : (bits .and .i64 (pf en 0 n) 1 != 0) = en := by
  unfold pf
  by_cases h : 0 + 1 = n
  · rw [if_pos h]
    cases en
    · rw [if_neg (by simp)]; kernel_rfl
    · rw [if_pos (by simp)]; kernel_rfl
  · rw [if_neg h]
    cases en
    · rw [if_neg (by simp)]; kernel_rfl
    · rw [if_pos (by simp)]; kernel_rfl

theorem prt_code (m : Nat) (en : Bool) (j n L : Nat) (hL : L ≤ 1000) : codeF (if j = 0 then 1 else 9) (pf en j n) 3 L = 0 := by
  have hf : 0 ≤ pf en j n ∧ pf en j n ≤ 255 := by rcases pf_cases en j n with h | h | h | h <;> rw [h] <;> omega
  unfold codeF okF sizeF streamF
  by_cases h : j = 0
  · rw [if_pos h, if_pos ⟨decide_eq_true ⟨by omega, hf, by omega, hL⟩, by simp⟩, if_pos (by simp)]
  · rw [if_neg h, if_pos ⟨decide_eq_true ⟨by omega, hf, by omega, hL⟩, by simp⟩, if_pos (by simp)]

theorem got_ok (m : Nat) (en : Bool) (zs : List Int) (j : Nat) (hz : zs.length ≤ 3000) : okG (gotG m en zs j).1 (gotG m en zs j).2.1 (gotG m en zs j).2.2.length = true := by
  unfold gotG
  by_cases h : j = 0
  · rw [if_pos h]; rfl
  · rw [if_neg h]
    have h1 : (zs.take (j * m)).length ≤ 3000 := by rw [List.length_take]; omega
    exact decide_eq_true ⟨by omega, by omega, h1⟩

theorem take_next (zs : List Int) (a m : Nat) : zs.take a ++ (zs.drop a).take m = zs.take (a + m) := by rw [List.take_add]

theorem got_feed (m : Nat) (en : Bool) (zs : List Int) (j : Nat) (hm : 1 ≤ m) (hm2 : m ≤ 1000) (hz : zs.length ≤ 3000) (hj : j < pn m zs.length) :
    feedR (gotG m en zs j).1 (gotG m en zs j).2.1 (gotG m en zs j).2.2 (if j = 0 then 1 else 9) (pf en j (pn m zs.length)) 3 ((zs.drop (j * m)).take m) =
      if j + 1 = pn m zs.length then ((0, false, []), zs, 1) else (gotG m en zs (j + 1), [], 0) := by
  have hok := got_ok m en zs j hz
  have hL : ((zs.drop (j * m)).take m).length ≤ 1000 := by rw [List.length_take]; omega
  have hcode := prt_code m en j (pn m zs.length) _ hL
  have hpad := pf_pad en j (pn m zs.length)
  have hhead := pf_head en j (pn m zs.length)
  have hlast := pn_last hm hj
  have hnext : gotG m en zs (j + 1) = (3, en, zs.take ((j + 1) * m)) := by unfold gotG; rw [if_neg (by omega)]
  have hgr : grownR (gotG m en zs j).1 (gotG m en zs j).2.1 (gotG m en zs j).2.2 (if j = 0 then 1 else 9) (pf en j (pn m zs.length)) 3 ((zs.drop (j * m)).take m) = .inr (3, en, zs.take ((j + 1) * m)) := by
    unfold grownR ordB
    by_cases h : j = 0
    · subst h
      rw [hok, hcode]
      have h1 : gotG m en zs 0 = (0, false, []) := rfl
      rw [h1, hpad.1, hpad.2, pf_end]
      simp [unpadR]
    · rw [hok, hcode]
      have h1 : gotG m en zs j = (3, en, zs.take (j * m)) := by unfold gotG; rw [if_neg h]
      rw [h1, if_neg h, take_next, show j * m + m = (j + 1) * m by rw [Nat.succ_mul]]
      have h3 : ¬ 3000 < (zs.take (j * m)).length + ((zs.drop (j * m)).take m).length := by
        rw [← List.length_append, take_next, List.length_take]; omega
      simp only [h3, if_false]
      simp
  unfold feedR
  rw [hgr, hhead]
  have hk : ((if j = 0 then (1 : Int) else 9) = 1 ∨ (if j = 0 then (1 : Int) else 9) = 9) := by by_cases h : j = 0 <;> simp [h]
  by_cases h : j + 1 = pn m zs.length
  · rw [if_pos h]
    have h2 := hlast.1 h
    rw [h] at h2
    simp only [h, decide_true, and_true, if_pos hk]
    rw [List.take_of_length_le h2]
  · rw [if_neg h, hnext]
    simp only [h, decide_false, Bool.false_eq_true, and_false, if_false]

end Go.Proofs.YtpjldfpipchmjadDoor
