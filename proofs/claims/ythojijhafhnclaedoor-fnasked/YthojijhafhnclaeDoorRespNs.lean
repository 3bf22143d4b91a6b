/- The answer that fields are: no statement of the program; no condition. -/
import Derived.Test.YthojijhafhnclaeDoorTabs
import Derived.Test.YthojijhafhnclaeDoorMethNs
import Derived.Test.YthojijhafhnclaeDoorNumNs
namespace Go.Proofs.YthojijhafhnclaeDoor
open Go.RowKit
set_option linter.unusedVariables false

/-- A number's text. -/
def numT (n : Int) : ByteArray := ⟨(Lib.decDigits n.toNat).toArray⟩

/-- The fields of an answer. -/
def respF (st off : Int) : List Fld := if respB st off = true then (⟨#[58, 115, 116, 97, 116, 117, 115]⟩, numT st) :: (if off < 0 then [] else [(⟨#[117, 112, 108, 111, 97, 100, 45, 111, 102, 102, 115, 101, 116]⟩, numT off)]) else []

theorem numT_size {n : Int} (h : 0 ≤ n) (h2 : n ≤ 4294967295) : (numT n).size ≤ 10 := by
  have := decDigits_le 9 n.toNat (by omega)
  show (Lib.decDigits n.toNat).toArray.size ≤ 10
  simpa using this

theorem respF_len (st off : Int) : (respF st off).length ≤ 4 := by
  unfold respF
  split
  · split <;> simp
  · simp

end Go.Proofs.YthojijhafhnclaeDoor

namespace Go.Proofs.YthojijhafhnclaeDoor
open Go.RowKit
set_option linter.unusedVariables false

def bSt : List UInt8 := [58, 115, 116, 97, 116, 117, 115]
def bOf : List UInt8 := [117, 112, 108, 111, 97, 100, 45, 111, 102, 102, 115, 101, 116]

/-- What is read as the status and as how far it is. -/
noncomputable def stOf (xs : List Fld) : Int := match xs with
  | [] => 0
  | f :: _ => (upR f.2.data.toList 1000000000).1
noncomputable def offOf (xs : List Fld) : Int := match xs with
  | _ :: g :: _ => (upR g.2.data.toList 1000000000).1
  | _ => -1

/-- What RespOf answers. -/
noncomputable def respOfR (xs : List Fld) : (Int × Int) × Bool := @ite _ (xs ≠ [] ∧ respF (stOf xs) (offOf xs) = xs) (Classical.propDecidable _) ((stOf xs, offOf xs), true) ((0, 0), false)

theorem respOfR_yes {xs : List Fld} (h : xs ≠ []) (h2 : respF (stOf xs) (offOf xs) = xs) : respOfR xs = ((stOf xs, offOf xs), true) := if_pos ⟨h, h2⟩
theorem respOfR_no {xs : List Fld} (h : ¬ (xs ≠ [] ∧ respF (stOf xs) (offOf xs) = xs)) : respOfR xs = ((0, 0), false) := if_neg h

theorem bytes_eq {x y : ByteArray} (h : x.data.toList = y.data.toList) : x = y := by
  cases x
  cases y
  simp only [ByteArray.mk.injEq]
  exact Array.ext' h

theorem numT_list (n : Int) : (numT n).data.toList = Lib.decDigits n.toNat := by rw [numT]

/-- A number's text is what it is read of. -/
theorem text_iff {x : ByteArray} {n most : Int} (hm : most < 10000000000) (h0 : 0 ≤ n) (h1 : n ≤ most) : x = numT n ↔ upR x.data.toList most = (n, true) := by
  constructor
  · rintro rfl
    rw [numT_list]
    exact upR_same hm h0 h1 rfl
  · intro h
    by_cases hg : Good0 x.data.toList ∧ (val x.data.toList : Int) ≤ most
    · rw [upR_good hg.1 hg.2] at h
      injection h with h _
      obtain ⟨u, hu, he⟩ := (good0_iff _).1 hg.1
      rw [he, val_dec] at h
      refine bytes_eq ?_
      rw [numT_list, ← h, Int.toNat_natCast]
      exact he
    · rw [upR_bad hg] at h
      injection h with _ h
      cases h

theorem upR_nonneg (l : List UInt8) (most : Int) : 0 ≤ (upR l most).1 := by
  by_cases hg : Good0 l ∧ (val l : Int) ≤ most
  · rw [upR_good hg.1 hg.2]
    exact Int.natCast_nonneg _
  · rw [upR_bad hg]
    exact Int.le_refl _

theorem upR_le {l : List UInt8} {most : Int} (h : (upR l most).2 = true) : (upR l most).1 ≤ most := by
  by_cases hg : Good0 l ∧ (val l : Int) ≤ most
  · rw [upR_good hg.1 hg.2]
    exact hg.2
  · rw [upR_bad hg] at h
    cases h

theorem upR_pair {l : List UInt8} {most : Int} (h : (upR l most).2 = true) : upR l most = ((upR l most).1, true) := by rw [← h]

/-- What is read up to a bound is read up to a greater one. -/
theorem upR_more {l : List UInt8} {m most : Int} (hm : m ≤ most) (h : (upR l m).2 = true) : upR l most = ((upR l m).1, true) := by
  by_cases hg : Good0 l ∧ (val l : Int) ≤ m
  · rw [upR_good hg.1 hg.2, upR_good hg.1 (by omega)]
  · rw [upR_bad hg] at h
    cases h

theorem respF_none {st off : Int} (h : respB st off = false) : respF st off = [] := by rw [respF, h]; rfl
theorem respF_one {st : Int} (h : respB st (-1) = true) : respF st (-1) = [(⟨#[58, 115, 116, 97, 116, 117, 115]⟩, numT st)] := by rw [respF, h]; rfl
theorem respF_two {st off : Int} (h : respB st off = true) (ho : 0 ≤ off) : respF st off = [(⟨#[58, 115, 116, 97, 116, 117, 115]⟩, numT st), (⟨#[117, 112, 108, 111, 97, 100, 45, 111, 102, 102, 115, 101, 116]⟩, numT off)] := by rw [respF, h, if_pos rfl, if_neg (by omega)]

theorem respB_st {st off : Int} (h : respB st off = true) : (100 ≤ st ∧ st ≤ 599) ∧ -1 ≤ off ∧ off ≤ 1000000000 := by
  simp only [respB, Bool.and_eq_true, decide_eq_true_eq] at h
  exact h

theorem name_eq {x : ByteArray} {l : List UInt8} : x.toList = l ↔ x = ⟨l.toArray⟩ := by
  rw [Lib.toList_data]
  constructor
  · intro h
    exact bytes_eq (by rw [h])
  · rintro rfl
    rfl

/-- One field. -/
theorem respOfR_one (f : Fld) : respOfR [f] = @ite _ ((upR f.2.data.toList 599).2 = true ∧ f.1.toList = bSt ∧ respB (upR f.2.data.toList 599).1 (-1) = true) (Classical.propDecidable _) (((upR f.2.data.toList 599).1, -1), true) ((0, 0), false) := by
  by_cases h : (upR f.2.data.toList 599).2 = true ∧ f.1.toList = bSt ∧ respB (upR f.2.data.toList 599).1 (-1) = true
  · rw [if_pos h]
    obtain ⟨h1, h2, h3⟩ := h
    have e := upR_more (show (599 : Int) ≤ 1000000000 by omega) h1
    have es : stOf [f] = (upR f.2.data.toList 599).1 := by rw [stOf, e]
    have eo : offOf [f] = -1 := rfl
    have hb := respB_st h3
    rw [respOfR_yes (by simp) ?_, es, eo]
    rw [es, eo, respF_one h3]
    have e2 : f.2 = numT (upR f.2.data.toList 599).1 := (text_iff (by omega) (by omega) (by omega)).2 (upR_pair h1)
    have e1 : f.1 = ⟨#[58, 115, 116, 97, 116, 117, 115]⟩ := name_eq.1 h2
    obtain ⟨f1, f2⟩ := f
    dsimp only at e1 e2 ⊢
    rw [← e2, e1]
  · rw [if_neg h]
    refine respOfR_no fun hh => h ?_
    have eo : offOf [f] = -1 := rfl
    have hh := hh.2
    rw [eo] at hh
    cases hb : respB (stOf [f]) (-1)
    · rw [respF_none hb] at hh
      cases hh
    · rw [respF_one hb] at hh
      injection hh with hh _
      have hs := respB_st hb
      have e2 := congrArg Prod.snd hh
      have e1 := congrArg Prod.fst hh
      dsimp only at e1 e2
      have e3 := (text_iff (most := 599) (by omega) (by omega) (by omega)).1 e2.symm
      rw [e3]
      exact ⟨rfl, by rw [← e1]; exact name_eq.2 rfl, hb⟩

/-- Two fields. -/
theorem respOfR_two (f g : Fld) : respOfR [f, g] = @ite _ ((upR f.2.data.toList 599).2 = true ∧ (upR g.2.data.toList 1000000000).2 = true ∧ g.1.toList = bOf ∧ f.1.toList = bSt ∧ respB (upR f.2.data.toList 599).1 (upR g.2.data.toList 1000000000).1 = true) (Classical.propDecidable _) (((upR f.2.data.toList 599).1, (upR g.2.data.toList 1000000000).1), true) ((0, 0), false) := by
  have eo : offOf [f, g] = (upR g.2.data.toList 1000000000).1 := rfl
  have h0 := upR_nonneg g.2.data.toList 1000000000
  by_cases h : (upR f.2.data.toList 599).2 = true ∧ (upR g.2.data.toList 1000000000).2 = true ∧ g.1.toList = bOf ∧ f.1.toList = bSt ∧ respB (upR f.2.data.toList 599).1 (upR g.2.data.toList 1000000000).1 = true
  · rw [if_pos h]
    obtain ⟨h1, h4, h5, h2, h3⟩ := h
    have e := upR_more (show (599 : Int) ≤ 1000000000 by omega) h1
    have es : stOf [f, g] = (upR f.2.data.toList 599).1 := by rw [stOf, e]
    have hb := respB_st h3
    rw [respOfR_yes (by simp) ?_, es, eo]
    rw [es, eo, respF_two h3 h0]
    have e2 : f.2 = numT (upR f.2.data.toList 599).1 := (text_iff (by omega) (by omega) (by omega)).2 (upR_pair h1)
    have e4 : g.2 = numT (upR g.2.data.toList 1000000000).1 := (text_iff (by omega) h0 (by omega)).2 (upR_pair h4)
    have e1 : f.1 = ⟨#[58, 115, 116, 97, 116, 117, 115]⟩ := name_eq.1 h2
    have e3 : g.1 = ⟨#[117, 112, 108, 111, 97, 100, 45, 111, 102, 102, 115, 101, 116]⟩ := name_eq.1 h5
    obtain ⟨f1, f2⟩ := f
    obtain ⟨g1, g2⟩ := g
    dsimp only at e1 e2 e3 e4 ⊢
    rw [← e2, ← e4, e1, e3]
  · rw [if_neg h]
    refine respOfR_no fun hh => h ?_
    have hh := hh.2
    cases hb : respB (stOf [f, g]) (offOf [f, g])
    · rw [respF_none hb] at hh
      cases hh
    · rw [respF_two hb (by rw [eo]; exact h0)] at hh
      injection hh with hh hh2
      injection hh2 with hh2 _
      have hs := respB_st hb
      have e2 := congrArg Prod.snd hh
      have e1 := congrArg Prod.fst hh
      have e4 := congrArg Prod.snd hh2
      have e3 := congrArg Prod.fst hh2
      dsimp only at e1 e2 e3 e4
      have e5 := (text_iff (most := 599) (by omega) (by omega) (by omega)).1 e2.symm
      have e6 := (text_iff (most := 1000000000) (by omega) (by rw [eo]; exact h0) (by omega)).1 e4.symm
      rw [e5, e6]
      exact ⟨rfl, rfl, by rw [← e3]; exact name_eq.2 rfl, by rw [← e1]; exact name_eq.2 rfl, hb⟩

theorem respOfR_none : respOfR [] = ((0, 0), false) := respOfR_no fun h => h.1 rfl

theorem respOfR_many {xs : List Fld} (h : 2 < xs.length) : respOfR xs = ((0, 0), false) := respOfR_no fun hh => by
  have h2 : (respF (stOf xs) (offOf xs)).length ≤ 2 := by
    unfold respF
    split
    · split <;> simp
    · simp
  rw [hh.2] at h2
  omega

end Go.Proofs.YthojijhafhnclaeDoor
