/- Reading a code bit by bit with the rows of the lengths: when it is found, when it is not, and when it is the end's own; no program in it. -/
import Derived.Test.YtljhplddgcmmoabHimTab
import Derived.Test.YtljhplddgcmmoabHufRead
namespace Go.Proofs.Ytljhplddgcmmoab
open Go.RowKit
set_option linter.unusedVariables false

theorem rows_at (n : Nat) (hn : n ≤ 30) : rowsI.getD (n * 3) 0 = (countN n : Int) ∧ rowsI.getD (n * 3 + 1) 0 = (firstN n : Int) ∧ rowsI.getD (n * 3 + 2) 0 = (shortN n : Int) := by
  have h0 := rows_nat (n * 3) (by omega)
  have h1 := rows_nat (n * 3 + 1) (by omega)
  have h2 := rows_nat (n * 3 + 2) (by omega)
  unfold countN firstN shortN
  omega

theorem rows_small (n : Nat) (hn : n ≤ 30) : countN n ≤ 1073741824 ∧ firstN n ≤ 1073741824 ∧ shortN n ≤ 1073741824 := by
  have h0 := rows_nat (n * 3) (by omega)
  have h1 := rows_nat (n * 3 + 1) (by omega)
  have h2 := rows_nat (n * 3 + 2) (by omega)
  unfold countN firstN shortN
  omega

theorem no_code (n A : Nat) (h : firstN n + countN n ≤ A) : ∀ c : UInt8, ¬ (lenOf c = n ∧ codeOfB c = A) := by
  rintro c ⟨h1, h2⟩
  have hc : c.toNat < 256 := c.toNat_lt
  have ht := codes_top c.toNat (by omega)
  have e1 : (lensI.getD c.toNat 0).toNat = n := h1
  have e2 : (codesI.getD c.toNat 0).toNat = A := h2
  rw [e1, e2] at ht
  omega

theorem end_len : lensI.getD 256 0 = 30 := by decide +kernel
theorem end_code : codesI.getD 256 0 = 1073741823 := by decide +kernel

theorem found_sym (n A : Nat) (hn : n ≤ 30) (h1 : firstN n ≤ A) (h2 : A < firstN n + countN n) :
    ∃ s : Nat, s < 257 ∧ shortN n + A - firstN n < 257 ∧ rankI.getD (shortN n + A - firstN n) 0 = (s : Int) ∧ ((s = 256 ∧ n = 30 ∧ A = 1073741823) ∨ ∃ c : UInt8, s = c.toNat ∧ lenOf c = n ∧ codeOfB c = A) := by
  obtain ⟨r1, r2, r3, r4, r5⟩ := rank_sym n (by omega) (A - firstN n) (by omega)
  have e : shortN n + A - firstN n = shortN n + (A - firstN n) := by omega
  rw [e]
  obtain ⟨s, hs⟩ := Int.eq_ofNat_of_zero_le r2
  rw [hs] at r3 r4 r5 ⊢
  rw [Int.toNat_natCast] at r4 r5
  have hs7 : s < 257 := by omega
  refine ⟨s, hs7, r1, rfl, ?_⟩
  by_cases h6 : s = 256
  · subst h6
    rw [end_len] at r4
    rw [end_code] at r5
    exact .inl ⟨rfl, by omega, by omega⟩
  · have e2 : (UInt8.ofNat s).toNat = s := by
      have : s < 256 := by omega
      simp
      omega
    refine .inr ⟨UInt8.ofNat s, e2.symm, ?_, ?_⟩
    · unfold lenOf
      rw [e2, r4]
      omega
    · unfold codeOfB
      rw [e2, r5]
      omega

theorem end_none (zs : List Int) (u : List UInt8) (r : List Bool) (h : byteBits zs = textBits u ++ (bitsN 30 1073741823 ++ r)) : ∀ l, ¬ HuffOf l zs := by
  have e : bitsN 30 1073741823 = List.replicate 30 true := bitsN_ones 30
  rw [e] at h
  refine no_text zs u _ ?_ h ?_
  · intro c hc
    have hl := lenOf_range c
    exact free_ones 30 c (List.prefix_of_prefix_length_le hc (List.prefix_append _ _) (by rw [codeBits, bitsN_len, List.length_replicate]; omega))
  · intro p hp he
    have := congrArg List.length he
    rw [List.length_append, List.length_replicate, List.length_replicate] at this
    omega

theorem top_all (A : Nat) (h : A < 2 ^ 30) : A < firstN 30 + countN 30 := by
  rw [first_all]
  omega

theorem first_start : firstN 0 + countN 0 = 0 := by decide +kernel

/-- What a row of the call's own is not: a variable of another type. -/
theorem own_other {w : World} {base n : Nat} {v : Value} {xs : List Value} (h : w.ownsRow base 5 1 v n xs) {p : Nat} {cs : Array Value} {t : TypeId} {fr : Nat × Nat} (hp : w.heap[p]? = some (.cells cs t fr)) (ht : t ≠ 5) : v.ownBlock ≠ some p := by
  rcases h.2 with ⟨rfl, _⟩ | ⟨g, cap, cur, rfl, _, hg, _⟩
  · simp [Value.ownBlock]
  · intro e
    simp only [Value.ownBlock, Option.some.injEq] at e
    subst e
    rw [hg] at hp
    injection hp with hp
    injection hp with _ h2 _
    exact ht h2.symm

end Go.Proofs.Ytljhplddgcmmoab
