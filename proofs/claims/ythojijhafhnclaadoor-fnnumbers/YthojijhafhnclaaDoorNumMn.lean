/- Numbers as texts of up to ten digits, and what a reader with a bound answers: no statement of the program; no condition. -/
import Derived.Test.YthojijhafhnclaaDoorNumNums
import Derived.Test.YthojijhafhnclaaDoorOwn
import Derived.Lib.Strings
namespace Go.Proofs.YthojijhafhnclaaDoor
open Go.RowKit
set_option linter.unusedVariables false

theorem str_take_snoc (s : ByteArray) (k : Nat) (h : k < s.size) : s.data.toList.take (k + 1) = s.data.toList.take k ++ [s[k]] := by
  rw [List.take_succ_eq_append_getElem (by simpa using h)]; rfl

theorem str_len (s : ByteArray) : s.data.toList.length = s.size := Array.length_toList

theorem str_head (s : ByteArray) (h : 0 < s.size) : s.data.toList.head? = some s[0] := by
  have : s.data.toList = s[0] :: s.data.toList.drop 1 := by
    have h1 := str_take_snoc s 0 h
    have h2 := List.take_append_drop 1 s.data.toList
    rw [show (0 + 1) = 1 from rfl] at h1
    rw [h1] at h2
    simpa using h2.symm
  rw [this]; rfl

theorem ret_pair {a b : Int} {x y : Bool} (h : a = b) (k : x = y) : Ending.returned (.tuple #[.int .i64 a, .bool x]) = .returned (.tuple #[.int .i64 b, .bool y]) := by rw [h, k]

/-- What is a number of at most ten digits. -/
def Good0 (l : List UInt8) : Prop := 1 ≤ l.length ∧ l.length ≤ 10 ∧ (l.length = 1 ∨ l.head? ≠ some 48) ∧ digs l

/-- What l11Number answers. -/
noncomputable def numM (l : List UInt8) (most : Int) : Int × Bool := @ite _ (Good0 l) (Classical.propDecidable _) ((val l : Int), decide ((val l : Int) ≤ most)) (0, false)

theorem numM_bad (l : List UInt8) (most : Int) (h : ¬ Good0 l) : numM l most = (0, false) := if_neg h
theorem numM_good (l : List UInt8) (most : Int) (h : Good0 l) : numM l most = ((val l : Int), decide ((val l : Int) ≤ most)) := if_pos h

theorem digs_take {l : List UInt8} {k : Nat} (h : digs l) : digs (l.take k) := fun c hc => h c (List.mem_of_mem_take hc)

theorem val_small (s : ByteArray) (k : Nat) (h10 : s.size ≤ 10) (hd : digs (s.data.toList.take k)) : val (s.data.toList.take k) ≤ 10000000000 := by
  have h1 := val_lt _ hd
  have h2 : (s.data.toList.take k).length ≤ 10 := by
    have := str_len s
    simp only [List.length_take]
    omega
  have h3 : 10 ^ (s.data.toList.take k).length ≤ 10 ^ 10 := Nat.pow_le_pow_right (by decide) h2
  have h4 : 10 ^ 10 = 10000000000 := by decide
  omega

theorem good0_iff (l : List UInt8) : Good0 l ↔ ∃ u, u < 10000000000 ∧ l = Lib.decDigits u := by
  constructor
  · intro ⟨h1, h2, h3, h4⟩
    have h5 := val_lt _ h4
    have h6 : 10 ^ l.length ≤ 10 ^ 10 := Nat.pow_le_pow_right (by decide) h2
    have h7 : 10 ^ 10 = 10000000000 := by decide
    exact ⟨val l, by omega, (digits_of_val (l.length - 1) l (by omega) h4 h3).1.symm⟩
  · rintro ⟨u, hu, rfl⟩
    obtain ⟨i1, i2, i3, i4, _⟩ := val_of_digits u
    exact ⟨i3, decDigits_le 9 u (by omega), i4, i1⟩

theorem val_dec (u : Nat) : val (Lib.decDigits u) = u := (val_of_digits u).2.1

theorem parse_of_digs0 (l : List UInt8) : ∀ acc, digs l → l.foldl (fun n c => n * 10 + (c.toNat - 48)) acc < 10000000000 → Lib.parseUint10 acc l = .ok (l.foldl (fun n c => n * 10 + (c.toNat - 48)) acc) := by
  induction l with
  | nil => intro acc _ _; rfl
  | cons c l ih =>
    intro acc hd hb
    have hc := hd c (by simp)
    rw [List.foldl_cons] at hb ⊢
    have hg := fold_ge l (acc * 10 + (c.toNat - 48))
    rw [Lib.parseUint10, if_pos hc, if_neg (by omega), if_neg (by omega)]
    exact ih _ (fun x hx => hd x (by simp [hx])) hb

theorem atoi_of_dec (u : Nat) (hu : u < 10000000000) : Lib.atoiAll (Lib.decDigits u) = .ok (u : Int) := by
  obtain ⟨i1, i2, i3, _, _⟩ := val_of_digits u
  have hp := parse_of_digs0 (Lib.decDigits u) 0 i1 (by show val _ < _; omega)
  have hv : (Lib.decDigits u).foldl (fun n c => n * 10 + (c.toNat - 48)) 0 = u := i2
  rw [hv] at hp
  generalize Lib.decDigits u = l at *
  match l, i3 with
  | c :: r, _ =>
    have hc := i1 c (by simp)
    have e43 : ¬ (c.toNat = 43 ∨ c.toNat = 45) := by omega
    have e45 : ¬ c.toNat = 45 := by omega
    have hm : Lib.parseMag (c :: r) = .ok u := by rw [Lib.parseMag, if_neg (by simp)]; exact hp
    simp only [Lib.atoiAll]
    rw [if_neg e43, hm]
    show (if ¬ c.toNat = 45 ∧ 9223372036854775808 ≤ u then Lib.NumEnd.range else if c.toNat = 45 ∧ 9223372036854775808 < u then Lib.NumEnd.range else Lib.NumEnd.ok (if c.toNat = 45 then -(u : Int) else u)) = _
    rw [if_neg (by omega), if_neg (by omega), if_neg e45]

/-- What a reader with a bound answers. -/
noncomputable def upR (l : List UInt8) (most : Int) : Int × Bool := @ite _ (Good0 l ∧ (val l : Int) ≤ most) (Classical.propDecidable _) ((val l : Int), true) (0, false)

theorem upR_bad {l : List UInt8} {most : Int} (h : ¬ (Good0 l ∧ (val l : Int) ≤ most)) : upR l most = (0, false) := if_neg h
theorem upR_good {l : List UInt8} {most : Int} (h : Good0 l) (h2 : (val l : Int) ≤ most) : upR l most = ((val l : Int), true) := if_pos ⟨h, h2⟩

theorem upR_nothing {l : List UInt8} {most : Int} (h : ∀ v, Lib.atoiAll l ≠ .ok v) : upR l most = (0, false) := upR_bad fun hg => by
  obtain ⟨u, hu, rfl⟩ := (good0_iff l).1 hg.1
  exact h _ (atoi_of_dec u hu)

theorem upR_below {l : List UInt8} {most v : Int} (h : Lib.atoiAll l = .ok v) (hv : v < 0 ∨ most < v) : upR l most = (0, false) := upR_bad fun hg => by
  obtain ⟨u, hu, rfl⟩ := (good0_iff l).1 hg.1
  have h2 := hg.2
  rw [val_dec] at h2
  have e : Lib.NumEnd.ok v = Lib.NumEnd.ok (u : Int) := h.symm.trans (atoi_of_dec u hu)
  injection e with e
  omega

theorem upR_other {l : List UInt8} {most v : Int} (h : Lib.atoiAll l = .ok v) (hv : Lib.decDigits v.toNat ≠ l) : upR l most = (0, false) := upR_bad fun hg => by
  obtain ⟨u, hu, rfl⟩ := (good0_iff l).1 hg.1
  have e : Lib.NumEnd.ok v = Lib.NumEnd.ok (u : Int) := h.symm.trans (atoi_of_dec u hu)
  injection e with e
  subst e
  exact hv (by rw [Int.toNat_natCast])

theorem upR_same {l : List UInt8} {most v : Int} (hm : most < 10000000000) (h0 : 0 ≤ v) (h1 : v ≤ most) (hv : Lib.decDigits v.toNat = l) : upR l most = (v, true) := by
  obtain ⟨u, rfl⟩ := Int.eq_ofNat_of_zero_le h0
  rw [Int.toNat_natCast] at hv
  subst hv
  rw [upR_good ((good0_iff _).2 ⟨u, by omega, rfl⟩) (by rw [val_dec]; exact h1), val_dec]

/-- What is read of a number's own text. -/
theorem upR_back {u : Nat} {most : Int} (hm : most < 10000000000) (h : (u : Int) ≤ most) : upR (Lib.decDigits u) most = ((u : Int), true) := upR_same hm (by omega) h (by rw [Int.toNat_natCast])

/-- Where the bounded reader reads one, the plain one does, and the other way round. -/
theorem numM_upR (l : List UInt8) (most : Int) : (numM l most).2 = (upR l most).2 ∧ ((upR l most).2 = true → (numM l most).1 = (upR l most).1) := by
  by_cases hg : Good0 l
  · rw [numM_good l most hg]
    by_cases hv : (val l : Int) ≤ most
    · rw [upR_good hg hv]
      exact ⟨decide_eq_true hv, fun _ => rfl⟩
    · rw [upR_bad (fun h => hv h.2)]
      exact ⟨decide_eq_false hv, fun h => by cases h⟩
  · rw [numM_bad l most hg, upR_bad (fun h => hg h.1)]
    exact ⟨rfl, fun h => by cases h⟩

theorem numR_upR (l : List UInt8) : numR l = upR l 1000000000 := by
  by_cases hg : Good l
  · rw [numR, if_pos hg]
    obtain ⟨h1, h2, h3, h4, h5⟩ := hg
    rw [upR_good ⟨h1, h2, h3, h4⟩ (by omega)]
  · rw [numR, if_neg hg, upR_bad fun h => hg ⟨h.1.1, h.1.2.1, h.1.2.2.1, h.1.2.2.2, by omega⟩]

end Go.Proofs.YthojijhafhnclaaDoor
