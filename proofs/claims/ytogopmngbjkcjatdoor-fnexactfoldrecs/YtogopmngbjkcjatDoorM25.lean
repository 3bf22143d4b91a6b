/- What records make, said as the program goes; no program in it. Whether a Kind is one of a record's: what the program's own helper answers. -/
import Derived.Test.YtogopmngbjkcjatDoorM17
import Derived.Test.YtogopmngbjkcjatDoorM24
import Derived.Test.YtogopmngbjkcjatDoorM24
import Derived.Test.YtogopmngbjkcjatDoorM01
namespace Go.Proofs.YtogopmngbjkcjatDoor
open Go.RowKit
set_option linter.unusedVariables false

/-- What a record that begins an upload makes, said as the program goes. -/
def beginO (l : List U) (id : ByteArray) (rn : Int) : Option (List U) := if atU l id = none ∧ l.length < 10 then some (l.take (lessU l id) ++ [⟨id, rn, [], false⟩] ++ l.drop (lessU l id)) else none

section
variable {l : List U} {e q : Int} {id : ByteArray} {rn : Int} {ys : List Int}

theorem one1 (h : Asc l) : beginO l id rn = oneU l ⟨e, q, 1, id, rn, ys⟩ := by
  rw [beginO, oneU, if_pos rfl]
  by_cases hc : atU l id = none ∧ l.length < 10
  · rw [if_pos hc, if_pos hc, makeU_less h hc.1]
    simp
  · rw [if_neg hc, if_neg hc]

theorem one2 (h : Asc l) : growO l id rn ys = oneU l ⟨e, q, 2, id, rn, ys⟩ := by
  rw [growO, oneU, if_neg (show ¬ (2 : Int) = 1 by decide)]
  dsimp only
  cases atU l id with
  | none => rfl
  | some k =>
    dsimp only
    cases l[k]? with
    | none => rfl
    | some u =>
      dsimp only
      rw [if_pos (show (2 : Int) = 2 from rfl)]
      by_cases hc : u.done = true ∨ rn ≠ (u.zs.length : Int) ∨ u.want < rn + (ys.length : Int)
      · rw [if_pos hc, if_neg]
        intro hf
        simp only [fitB, Bool.and_eq_true, Bool.not_eq_true', decide_eq_true_eq] at hf
        rcases hc with hc | hc | hc
        · rw [hf.1.1] at hc; cases hc
        · exact hc hf.1.2
        · omega
      · rw [if_neg hc, if_pos]
        simp only [fitB, Bool.and_eq_true, Bool.not_eq_true', decide_eq_true_eq]
        simp only [not_or] at hc
        exact ⟨⟨by simpa using hc.1, by omega⟩, by omega⟩

theorem one3 (h : Asc l) : doneO l id = oneU l ⟨e, q, 3, id, rn, ys⟩ := by
  rw [doneO, oneU, if_neg (show ¬ (3 : Int) = 1 by decide)]
  dsimp only
  cases atU l id with
  | none => rfl
  | some k =>
    dsimp only
    cases l[k]? with
    | none => rfl
    | some u =>
      dsimp only
      rw [if_neg (show ¬ (3 : Int) = 2 by decide), if_pos (show (3 : Int) = 3 from rfl)]
      by_cases hc : u.done = true ∨ (u.zs.length : Int) ≠ u.want
      · rw [if_pos hc, if_neg]
        rintro ⟨h1, h2⟩
        rcases hc with hc | hc
        · rw [h1] at hc; cases hc
        · exact hc h2
      · rw [if_neg hc, if_pos]
        simp only [not_or] at hc
        exact ⟨by simpa using hc.1, by omega⟩

theorem one4 (h : Asc l) : dropO l id = oneU l ⟨e, q, 4, id, rn, ys⟩ := by
  rw [dropO, oneU, if_neg (show ¬ (4 : Int) = 1 by decide)]
  dsimp only
  cases hk : atU l id with
  | none => rfl
  | some k =>
    dsimp only
    obtain ⟨hkl, _⟩ := atU_is hk
    rw [List.getElem?_eq_getElem hkl]
    dsimp only
    rw [if_neg (show ¬ (4 : Int) = 2 by decide), if_neg (show ¬ (4 : Int) = 3 by decide), if_pos (show (4 : Int) = 4 from rfl), erase_kept h hk]
end

end Go.Proofs.YtogopmngbjkcjatDoor

namespace Go.Proofs.YtogopmngbjkcjatDoor
open Go.RowKit
set_option linter.unusedVariables false

theorem implKind_any (k : Int) (w : World) :
    Calls Tryd.prog 67 #[.int .i64 k] w fun e w' => e = .returned (.bool (decide (1 ≤ k ∧ k ≤ 4))) ∧ w' = w := by
  by_cases h1 : 1 ≤ k
  · by_cases h4 : k ≤ 4
    · have HF : Hid (decide (1 ≤ k ∧ k ≤ 4) = true) := decide_eq_true ⟨h1, h4⟩
      have d1 : decide (1 ≤ k) = true := decide_eq_true h1
      have d4 : decide (k ≤ 4) = true := decide_eq_true h4
      rw [HF.out]
      go_enter Tryd.func67, Tryd.ntmps67
      go_wp2_with fail
      go_ret
      exact ⟨rfl, rfl⟩
    · have HF : Hid (decide (1 ≤ k ∧ k ≤ 4) = false) := decide_eq_false (fun h => h4 h.2)
      have d1 : decide (1 ≤ k) = true := decide_eq_true h1
      have d4 : decide (k ≤ 4) = false := decide_eq_false h4
      rw [HF.out]
      go_enter Tryd.func67, Tryd.ntmps67
      go_wp2_with fail
      go_ret
      exact ⟨rfl, rfl⟩
  · have HF : Hid (decide (1 ≤ k ∧ k ≤ 4) = false) := decide_eq_false (fun h => h1 h.1)
    have d1 : decide (1 ≤ k) = false := decide_eq_false h1
    rw [HF.out]
    go_enter Tryd.func67, Tryd.ntmps67
    go_wp2_with fail
    go_ret
    exact ⟨rfl, rfl⟩

end Go.Proofs.YtogopmngbjkcjatDoor
