/- What Part answers: the model. No program in it. -/
import Derived.Test.YtpjldfpipchmjaoFrRow
import Derived.Test.YtpjldfpipchmjaoNums
namespace Go.Proofs.Ytpjldfpipchmjao
open Go.RowKit
set_option linter.unusedVariables false

/-- How many parts of m bytes a block of len bytes has. -/
def pn (m len : Nat) : Nat := if len = 0 then 1 else (len - 1) / m + 1

theorem pn_lt {m len j : Nat} (hm : 1 ≤ m) : j < pn m len ↔ j = 0 ∨ j * m < len := by
  unfold pn
  split
  · subst len; omega
  · rw [Nat.lt_succ_iff, Nat.le_div_iff_mul_le (by omega)]
    constructor
    · intro h; right; omega
    · rintro (rfl | h)
      · omega
      · omega

theorem pn_pos (m len : Nat) : 1 ≤ pn m len := by
  unfold pn
  split
  · exact Nat.le_refl _
  · exact Nat.succ_pos _

theorem pn_last {m len j : Nat} (hm : 1 ≤ m) (h : j < pn m len) : j + 1 = pn m len ↔ len ≤ (j + 1) * m := by
  have h1 := pn_lt (m := m) (len := len) (j := j + 1) hm
  constructor
  · intro e
    have : ¬ j + 1 < pn m len := by omega
    rw [h1] at this
    omega
  · intro e
    have : ¬ j + 1 < pn m len := by rw [h1]; omega
    omega

/-- The flags of the part j of n. -/
def pf (en : Bool) (j n : Nat) : Int := if j + 1 = n then (if j = 0 ∧ en = true then 5 else 4) else (if j = 0 ∧ en = true then 1 else 0)

/-- The part j. -/
def prt (m : Nat) (s : Int) (en : Bool) (zs : List Int) (j : Nat) : Int × Int × Int × List Int := (if j = 0 then 1 else 9, pf en j (pn m zs.length), s, (zs.drop (j * m)).take m)

/-- How many bytes a part may have. -/
def clampM (most : Int) : Nat := (min (max most 1) 1000).toNat

theorem clampM_range (most : Int) : 1 ≤ clampM most ∧ clampM most ≤ 1000 := by unfold clampM; omega

/-- What Part answers. -/
def partL (s : Int) (en : Bool) (zs : List Int) (most : Int) : List (Int × Int × Int × List Int) :=
  if 1 ≤ s ∧ s ≤ 2147483647 then (List.range (pn (clampM most) zs.length)).map (prt (clampM most) s en zs) else []

theorem pn_le (m len : Nat) (hm : 1 ≤ m) : pn m len ≤ len + 1 := by
  unfold pn
  split
  · omega
  · have := Nat.div_le_self (len - 1) m; omega

theorem partL_len (s : Int) (en : Bool) (zs : List Int) (most : Int) : (partL s en zs most).length ≤ zs.length + 1 := by
  unfold partL
  split
  · rw [List.length_map, List.length_range]; exact pn_le _ _ (clampM_range most).1
  · simp

theorem partL_body (s : Int) (en : Bool) (zs : List Int) (most : Int) : ∀ e ∈ partL s en zs most, e.2.2.2.length ≤ 1000 := by
  intro e he
  unfold partL at he
  split at he
  · obtain ⟨j, _, rfl⟩ := List.mem_map.1 he
    simp only [prt, List.length_take]
    have := (clampM_range most).2
    omega
  · cases he

theorem take_part (zs : List Int) (F E m : Nat) (hE : E = F + m ∨ (E = zs.length ∧ zs.length ≤ F + m)) : (zs.drop F).take (E - F) = (zs.drop F).take m := by
  rcases hE with rfl | ⟨rfl, h⟩
  · rw [Nat.add_sub_cancel_left]
  · rw [List.take_of_length_le (by simp), List.take_of_length_le (by simp; omega)]

end Go.Proofs.Ytpjldfpipchmjao
