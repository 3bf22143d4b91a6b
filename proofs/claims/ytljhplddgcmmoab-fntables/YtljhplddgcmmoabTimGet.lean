/- The program's FirstField. -/
import Derived.Test.YtljhplddgcmmoabTimFirst
import Derived.Test.YtljhplddgcmmoabTabFit
namespace Go.Proofs.Ytljhplddgcmmoab
open Go.RowKit
set_option linter.unusedVariables false

theorem index_fld (A : Array Value) (j : Nat) (hj : j < 61) (x y : ByteArray) (h0 : A[j * 2]? = some (.string x)) (h1 : A[j * 2 + 1]? = some (.string y)) (hs : A.size = 122) (w : World) : (Instr.index 92 (.agg A) (.int .i64 (j : Int))).run Try.prog w = .ok (.agg #[.string x, .string y]) w := by
  have hin : (0 : Int) ≤ (j : Int) ∧ (j : Int) < ((61 : Nat) : Int) := by omega
  have hz : (sizeOf 36).run Try.prog w = .ok 2 w := by simp [go_sem]
  have ha : (isAgg 36).run Try.prog w = .ok true w := by simp [go_sem]
  have hx : A.extract (j * 2) (j * 2 + 2) = #[.string x, .string y] := by
    apply Array.ext_getElem?
    intro i
    rw [Array.getElem?_extract]
    rcases i with _ | _ | i
    · simp [h0, hs]; omega
    · simp [h1, hs]; omega
    · simp; omega
  simp only [Instr.index, asIntOf, Sem.run_bind, Sem.run_pure, Result.andThen_ok, run_underlying Try.underlying92, hin, and_self, if_true, hz, part, ha, Int.toNat_natCast, hx]

set_option maxRecDepth 10000 in
set_option maxHeartbeats 800000 in
theorem implFF_any (i : Int) (w : World) : Calls Try.prog 29 #[.int .i64 i] w fun e w' => e = .returned (.tuple #[.agg #[.string (firstAns i).1.1, .string (firstAns i).1.2], .bool (firstAns i).2]) ∧ Below w.heap.size w w' := by
  by_cases h : 1 ≤ i ∧ i ≤ 61
  · obtain ⟨k, hk⟩ : ∃ k : Nat, i = (k : Int) + 1 := ⟨(i - 1).toNat, by omega⟩
    have hk61 : k < firstL.length := by rw [firstL_len]; omega
    have e : firstAns i = ((firstL[k]'hk61), true) := by
      rw [firstAns, if_pos h, show (i - 1).toNat = k by omega, List.getD_eq_getElem?_getD, List.getElem?_eq_getElem hk61]
      rfl
    rw [e]
    subst hk
    clear e
    obtain ⟨h1, h2⟩ := h
    have hc := fieldCells_at firstL k hk61
    rw [Nat.mul_comm 2 k] at hc
    obtain ⟨x, hx⟩ : ∃ x, (firstL[k]'hk61).1 = x := ⟨_, rfl⟩
    obtain ⟨y, hy⟩ : ∃ y, (firstL[k]'hk61).2 = y := ⟨_, rfl⟩
    rw [hx, hy] at hc ⊢
    obtain ⟨FC, hFC⟩ : ∃ FC, (fieldCells firstL).toArray = FC := ⟨_, rfl⟩
    have hidx := index_fld FC k (by rw [firstL_len] at hk61; exact hk61) x y (by rw [← hFC]; simpa using hc.1) (by rw [← hFC]; simpa using hc.2) (by rw [← hFC]; exact firstCells_len)
    have HF : Hid (∀ w : World, Calls Try.prog 65 #[] w fun e w' => e = .returned (.agg FC) ∧ w' = w.alloc (.cells FC 92)) := by rw [← hFC]; exact implFirst_any
    clear hx hy hc hFC
    go_enter Try.func29, Try.ntmps29
    go_wp2_with fail
    refine (HF.out _).mono ?_
    rintro e w2 ⟨rfl, rfl⟩
    go_wp2_with fail
    refine bodyPost_ret (v := .tuple #[.agg #[.string x, .string y], .bool true]) (by simp [results, Try.f29, go_sem]) rfl ?_
    exact ⟨rfl, ((Below.refl _ _).alloc (Nat.le_refl _) _).alloc (by simp) _⟩
  · have e : firstAns i = ((⟨#[]⟩, ⟨#[]⟩), false) := by rw [firstAns, if_neg h]
    rw [e]
    have HF : Hid (i < 1 ∨ 61 < i) := by show _ ∨ _; omega
    clear h e
    go_enter Try.func29, Try.ntmps29
    by_cases h1 : i < 1
    · go_wp2_with fail
      refine bodyPost_ret (v := .tuple #[.agg #[.string ⟨#[]⟩, .string ⟨#[]⟩], .bool false]) (by simp [results, Try.f29, go_sem]) rfl ?_
      exact ⟨rfl, (Below.refl _ _).alloc (Nat.le_refl _) _⟩
    · have h2 : 61 < i := by have := HF.out; omega
      go_wp2_with fail
      refine bodyPost_ret (v := .tuple #[.agg #[.string ⟨#[]⟩, .string ⟨#[]⟩], .bool false]) (by simp [results, Try.f29, go_sem]) rfl ?_
      exact ⟨rfl, (Below.refl _ _).alloc (Nat.le_refl _) _⟩

end Go.Proofs.Ytljhplddgcmmoab
