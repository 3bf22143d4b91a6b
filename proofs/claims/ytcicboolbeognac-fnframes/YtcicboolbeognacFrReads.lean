/- What ReadFrames answers; no program in it. -/
import Derived.Test.YtcicboolbeognacFrGetNums
namespace Go.Proofs.Ytcicboolbeognac
open Go.RowKit
set_option linter.unusedVariables false

/-- What a frame says that is read at this place. -/
def getD4 (zs : List Int) (at_ : Int) : Int × Int × Int × List Int := ((getF zs at_).1, (getF zs at_).2.1, (getF zs at_).2.2.1, (getF zs at_).2.2.2.1)

/-- From this place on these frames are read, up to the place p, where the code is c. -/
inductive Reads (zs : List Int) : Int → List (Int × Int × Int × List Int) → Int → Int → Prop
  | stop (at_ : Int) (h : ¬ (getF zs at_).2.2.2.2.2 = 0) : Reads zs at_ [] at_ (getF zs at_).2.2.2.2.2
  | step (at_ : Int) (l : List (Int × Int × Int × List Int)) (p c : Int) (h : (getF zs at_).2.2.2.2.2 = 0) (r : Reads zs (getF zs at_).2.2.2.2.1 l p c) : Reads zs at_ (getD4 zs at_ :: l) p c

theorem Reads.one {zs : List Int} {at_ : Int} {l : List (Int × Int × Int × List Int)} {p c : Int} (h : Reads zs at_ l p c) : ∀ {l' : List (Int × Int × Int × List Int)} {p' c' : Int}, Reads zs at_ l' p' c' → l = l' ∧ p = p' ∧ c = c' := by
  induction h with
  | stop at_ h =>
    intro l' p' c' h'
    cases h' with
    | stop _ h2 => exact ⟨rfl, rfl, rfl⟩
    | step _ l2 p2 c2 h2 r2 => exact absurd h2 h
  | step at_ l p c h r ih =>
    intro l' p' c' h'
    cases h' with
    | stop _ h2 => exact absurd h h2
    | step _ l2 p2 c2 h2 r2 =>
      obtain ⟨e1, e2, e3⟩ := ih r2
      exact ⟨by rw [e1], e2, e3⟩

/-- A frame that is good stands within the bytes, and takes nine bytes and its body. -/
theorem getF_good {zs : List Int} {at_ : Int} (hz : ∀ n ∈ zs, 0 ≤ n ∧ n ≤ 255) (h : (getF zs at_).2.2.2.2.2 = 0) : 0 ≤ at_ ∧ (getF zs at_).2.2.2.2.1 = at_ + 9 + ((getF zs at_).2.2.2.1.length : Int) ∧ (getF zs at_).2.2.2.2.1 ≤ (zs.length : Int) ∧ (getF zs at_).2.2.2.1.length ≤ 1000 := by
  unfold getF at h ⊢
  by_cases h1 : 0 ≤ at_ ∧ at_ + 9 ≤ (zs.length : Int)
  · rw [if_pos h1] at h ⊢
    obtain ⟨T, rfl⟩ := Int.eq_ofNat_of_zero_le h1.1
    rw [Int.toNat_natCast] at h ⊢
    have hr := frLen_range zs T hz
    obtain ⟨n, hn⟩ := Int.eq_ofNat_of_zero_le hr.1
    rw [hn] at h ⊢
    by_cases h2 : (1000 : Int) < (n : Int)
    · rw [if_pos h2] at h; cases h
    · rw [if_neg h2] at h ⊢
      by_cases h3 : (T : Int) + 9 + (n : Int) ≤ (zs.length : Int)
      · rw [if_pos h3] at h ⊢
        dsimp only
        rw [Int.toNat_natCast, List.length_take, List.length_drop]
        refine ⟨by omega, by omega, h3, by omega⟩
      · rw [if_neg h3] at h; cases h
  · rw [if_neg h1] at h; cases h

theorem Reads.any {zs : List Int} (hz : ∀ n ∈ zs, 0 ≤ n ∧ n ≤ 255) : ∀ (m : Nat) (at_ : Int), (zs.length : Int) + 1 - at_ ≤ (m : Int) → ∃ l p c, Reads zs at_ l p c := by
  intro m
  induction m with
  | zero =>
    intro at_ hm
    by_cases h : (getF zs at_).2.2.2.2.2 = 0
    · have := getF_good hz h
      omega
    · exact ⟨_, _, _, .stop at_ h⟩
  | succ m ih =>
    intro at_ hm
    by_cases h : (getF zs at_).2.2.2.2.2 = 0
    · have := getF_good hz h
      obtain ⟨l, p, c, r⟩ := ih _ (show (zs.length : Int) + 1 - (getF zs at_).2.2.2.2.1 ≤ (m : Int) by omega)
      exact ⟨_, _, _, .step at_ l p c h r⟩
    · exact ⟨_, _, _, .stop at_ h⟩

/-- The bytes that frames take. -/
def frBytes (l : List (Int × Int × Int × List Int)) : Nat := (l.map fun e => 9 + e.2.2.2.length).sum

theorem frBytes_cons (e : Int × Int × Int × List Int) (l : List (Int × Int × Int × List Int)) : frBytes (e :: l) = 9 + e.2.2.2.length + frBytes l := by simp [frBytes]

theorem frBytes_append (l m : List (Int × Int × Int × List Int)) : frBytes (l ++ m) = frBytes l + frBytes m := by simp [frBytes]

theorem Reads.size {zs : List Int} (hz : ∀ n ∈ zs, 0 ≤ n ∧ n ≤ 255) {at_ : Int} {l : List (Int × Int × Int × List Int)} {p c : Int} (h : Reads zs at_ l p c) (h0 : 0 ≤ at_ ∧ at_ ≤ (zs.length : Int)) : p = at_ + (frBytes l : Int) ∧ p ≤ (zs.length : Int) ∧ ∀ e ∈ l, e.2.2.2.length ≤ 1000 := by
  induction h with
  | stop at_ h => exact ⟨by simp [frBytes], h0.2, by simp⟩
  | step at_ l p c h r ih =>
    have hg := getF_good hz h
    obtain ⟨e1, e2, e3⟩ := ih ⟨by omega, hg.2.2.1⟩
    refine ⟨?_, e2, ?_⟩
    · rw [frBytes_cons, e1, hg.2.1]
      simp only [getD4]
      omega
    · intro e he
      rcases List.mem_cons.1 he with rfl | he
      · exact hg.2.2.2
      · exact e3 e he

theorem frBytes_len (l : List (Int × Int × Int × List Int)) : l.length * 9 ≤ frBytes l := by
  induction l with
  | nil => simp [frBytes]
  | cons e l ih => rw [frBytes_cons, List.length_cons]; omega

end Go.Proofs.Ytcicboolbeognac
