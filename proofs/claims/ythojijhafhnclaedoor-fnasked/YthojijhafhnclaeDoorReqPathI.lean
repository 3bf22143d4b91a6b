/- What the program's idOf answers: the upload's name in a path. -/
import Derived.Test.YthojijhafhnclaeDoorReqOfN
import Derived.Test.YthojijhafhnclaeDoorReqIdI
namespace Go.Proofs.YthojijhafhnclaeDoor
open Go.RowKit
set_option linter.unusedVariables false

/-- What idOf answers. -/
def idOfR (p : ByteArray) : ByteArray × Bool := if pathB p = true then (p.extract 4 p.size, true) else (⟨#[]⟩, false)

/-- Whether a path has the beginning. -/
def upB (p : ByteArray) : Bool := decide (4 ≤ p.size) && ((p.extract 0 4).toList == bU)

theorem pathB_no {p : ByteArray} (h : upB p = false) : pathB p = false := by
  cases hp : pathB p
  · rfl
  · simp only [pathB, Bool.and_eq_true, decide_eq_true_eq] at hp
    have : upB p = true := by
      simp only [upB, Bool.and_eq_true, decide_eq_true_eq]
      exact ⟨by omega, hp.1.2⟩
    rw [this] at h
    cases h

theorem pathB_id {p : ByteArray} (h : upB p = true) : pathB p = idB (p.extract 4 p.size).data.toList := by
  simp only [upB, Bool.and_eq_true, decide_eq_true_eq] at h
  rw [pathB, h.2, Bool.and_true]
  by_cases h5 : 5 ≤ p.size
  · rw [decide_eq_true h5, Bool.true_and]
  · rw [decide_eq_false h5, Bool.false_and]
    refine (idB_long ?_).symm
    rw [Array.length_toList]
    show ¬ (1 ≤ (p.extract 4 p.size).size ∧ _)
    rw [ByteArray.size_extract]
    omega

theorem ret_sb' {a b : ByteArray} {x y : Bool} (h : a = b) (k : x = y) : Ending.returned (.tuple #[.string a, .bool x]) = .returned (.tuple #[.string b, .bool y]) := by rw [h, k]

set_option maxRecDepth 10000 in
theorem implLiteUp_any (p : ByteArray) (w : World) (hm : p.size ≤ 9223372036854775807) :
    Calls Tryd.prog 62 #[.string p, .string ⟨#[47, 117, 112, 47]⟩] w fun e w' => e = .returned (.bool (upB p)) ∧ w' = w := by
  by_cases h0 : 4 ≤ p.size
  · have hi : (4 : Int) ≤ (p.size : Int) := by omega
    have HF : Hid (upB p = ((p.extract 0 4).toList == [47, 117, 112, 47])) := by show _ = _; rw [upB, decide_eq_true h0, Bool.true_and]; rfl
    go_enter Tryd.func62, Tryd.ntmps62
    go_wp2_with fail
    go_ret
    exact ⟨ret_bool' HF.out.symm, rfl⟩
  · have hi : ¬ (4 : Int) ≤ (p.size : Int) := by omega
    have HF : Hid (upB p = false) := by show _ = _; rw [upB, decide_eq_false h0, Bool.false_and]
    go_enter Tryd.func62, Tryd.ntmps62
    go_wp2_with fail
    go_ret
    exact ⟨ret_bool' HF.out.symm, rfl⟩

/-- What CutPrefix answers of a path. -/
def cutR (p : ByteArray) : ByteArray × Bool := if upB p = true then (p.extract 4 p.size, true) else (p, false)

set_option maxRecDepth 10000 in
theorem implLiteCut_any (p : ByteArray) (w : World) (hm : p.size ≤ 9223372036854775807) :
    Calls Tryd.prog 55 #[.string p, .string ⟨#[47, 117, 112, 47]⟩] w fun e w' => e = .returned (.tuple #[.string (cutR p).1, .bool (cutR p).2]) ∧ w' = w := by
  have HC : Hid (cutR p = if upB p = true then (p.extract 4 p.size, true) else (p, false)) := rfl
  have H4 : Hid (upB p = true → 4 ≤ p.size) := fun hu => by simp only [upB, Bool.and_eq_true, decide_eq_true_eq] at hu; exact hu.1
  go_enter Tryd.func55, Tryd.ntmps55
  go_wp2_with fail
  refine (implLiteUp_any p w hm).mono ?_
  rintro e w1 ⟨rfl, hw1⟩
  subst hw1
  generalize upB p = b at *
  cases b
  · rw [if_neg (by simp)] at HC
    go_wp2_with fail
    go_ret2
    exact ⟨ret_sb' (by rw [HC.out]) (by rw [HC.out]), rfl⟩
  · rw [if_pos rfl] at HC
    have h4 : 4 ≤ p.size := H4.out rfl
    have hi : (4 : Int) ≤ (p.size : Int) := by omega
    go_wp2_with fail
    go_ret2
    exact ⟨ret_sb' (by rw [HC.out]) (by rw [HC.out]), rfl⟩

theorem implCut_any (p : ByteArray) (w : World) (hm : p.size ≤ 9223372036854775807) :
    Calls Tryd.prog 46 #[.string p, .string ⟨#[47, 117, 112, 47]⟩] w fun e w' => e = .returned (.tuple #[.string (cutR p).1, .bool (cutR p).2]) ∧ w' = w := by
  go_enter Tryd.func46, Tryd.ntmps46
  go_wp2_with fail
  refine (implLiteCut_any p w hm).mono ?_
  rintro e w1 ⟨rfl, hw1⟩
  subst hw1
  go_wp2_with fail
  go_ret2
  exact ⟨rfl, rfl⟩

set_option maxRecDepth 10000 in
theorem implIdOf_any (p : ByteArray) (w : World) (hm : p.size ≤ 9223372036854775807) :
    Calls Tryd.prog 22 #[.string p] w fun e w' => e = .returned (.tuple #[.string (idOfR p).1, .bool (idOfR p).2]) ∧ Below w.heap.size w w' := by
  go_enter Tryd.func22, Tryd.ntmps22
  go_wp2_with fail
  refine (implCut_any p w hm).mono ?_
  rintro e w1 ⟨rfl, hw1⟩
  subst hw1
  have HC : Hid (cutR p = if upB p = true then (p.extract 4 p.size, true) else (p, false)) := rfl
  cases hu : upB p
  · have HF : Hid (idOfR p = (⟨#[]⟩, false)) := by show _ = _; rw [idOfR, pathB_no hu]; rfl
    rw [hu, if_neg (by simp)] at HC
    rw [HC.out]
    clear hu
    go_wp2_with fail
    go_ret2
    exact ⟨ret_sb' (by rw [HF.out]) (by rw [HF.out]), Below.refl _ _⟩
  · have HP : Hid (pathB p = idB (p.extract 4 p.size).data.toList) := pathB_id hu
    have HF : Hid (idOfR p = if pathB p = true then (p.extract 4 p.size, true) else (⟨#[]⟩, false)) := rfl
    have hq : (p.extract 4 p.size).size ≤ 9223372036854775807 := by rw [ByteArray.size_extract]; omega
    rw [hu, if_pos rfl] at HC
    rw [HC.out]
    rw [HP.out] at HF
    clear hu HP HC
    generalize p.extract 4 p.size = q at *
    go_wp2_with fail
    refine (implId_any q w1 hq).mono ?_
    rintro e w2 ⟨rfl, hb2⟩
    have HB2 : Hid (Below w1.heap.size w1 w2) := hb2
    clear hb2
    cases hi : idB q.data.toList
    · rw [hi, if_neg (by simp)] at HF
      clear hi
      go_wp2_with fail
      go_ret2
      exact ⟨ret_sb' (by rw [HF.out]) (by rw [HF.out]), HB2.out⟩
    · rw [hi, if_pos rfl] at HF
      clear hi
      go_wp2_with fail
      go_ret2
      exact ⟨ret_sb' (by rw [HF.out]) (by rw [HF.out]), HB2.out⟩

end Go.Proofs.YthojijhafhnclaeDoor
