/- What the specification's RecOk answers. -/
import Derived.Test.YtenkpgnkkkgdmauGreatDoorM08
import Derived.Test.YtenkpgnkkkgdmauGreatDoorM38
import Derived.Test.YtenkpgnkkkgdmauGreatDoorM03
import Derived.Deep.CutBlock
namespace Go.Proofs.YtenkpgnkkkgdmauGreatDoor
open Go.RowKit
set_option linter.unusedVariables false

set_option maxRecDepth 10000 in
set_option maxHeartbeats 1600000 in
theorem specRok_any (e q k : Int) (id : ByteArray) (n : Int) (a : Option Addr) (d ca : Nat) (w : World) (hi : id.size ≤ maxLen) (hd : d ≤ 1099511627776) :
    Calls Tryz.prog 79 #[.agg #[.int .i64 e, .int .i64 q, .int .i64 k, .string id, .int .i64 n, .slice a d ca]] w fun r w' => r = .returned (.bool (okRec e q k id n d)) ∧ Below w.heap.size w w' := by
  have hmm : maxLen < 9223372036854775808 := by decide
  obtain ⟨w0, hw0⟩ : ∃ w0, w.alloc (.cells #[.int .i64 e, .int .i64 q, .int .i64 k, .string id, .int .i64 n, .slice a d ca] 56) = w0 := ⟨_, rfl⟩
  have HE : Hid (w.alloc (.cells #[.int .i64 e, .int .i64 q, .int .i64 k, .string id, .int .i64 n, .slice a d ca] 56) = w0) := hw0
  have q0 : BoxN w0 w.heap.size 56 [.int .i64 e, .int .i64 q, .int .i64 k, .string id, .int .i64 n, .slice a d ca] := by rw [← hw0]; exact BoxN.new _ _ _
  have HB : Hid (Below w.heap.size w w0) := by show Below _ _ _; rw [← hw0]; exact (Below.refl _ _).alloc (Nat.le_refl _) _
  have c0 := q0.cell 0 rfl
  have c1 := q0.cell 1 rfl
  have c2 := q0.cell 2 rfl
  have c3 := q0.cell 3 rfl
  have c4 := q0.cell 4 rfl
  have c5 := q0.cell 5 rfl
  clear hw0 q0
  go_enter Tryz.func79, Tryz.ntmps79
  go_upto_region 1 with fail
  rw [HE.out]
  clear HE
  go_wp2_with fail
  refine (l1In_any e 0 10000 _).mono ?_
  rintro r w1 ⟨rfl, rfl⟩
  by_cases h1 : 0 ≤ e ∧ e ≤ 10000
  case neg =>
    rw [decide_eq_false h1]
    have HF : Hid (okRec e q k id n d = false) := by show _ = _; rw [okRec, decide_eq_false h1]; rfl
    go_wp2_with fail
    go_ret
    exact ⟨ret_bool HF.out.symm, HB.out⟩
  rw [decide_eq_true h1]
  go_wp2_with fail
  refine (l1In_any q 0 199 _).mono ?_
  rintro r w1 ⟨rfl, rfl⟩
  by_cases h2 : 0 ≤ q ∧ q ≤ 199
  case neg =>
    rw [decide_eq_false h2]
    have HF : Hid (okRec e q k id n d = false) := by show _ = _; rw [okRec, decide_eq_false h2, Bool.and_false]; rfl
    go_wp2_with fail
    go_ret
    exact ⟨ret_bool HF.out.symm, HB.out⟩
  rw [decide_eq_true h2]
  go_wp2_with fail
  refine (specId_any id _ (by omega)).mono ?_
  rintro r w1 ⟨rfl, rfl⟩
  cases h3 : idB id.data.toList
  · have HF : Hid (okRec e q k id n d = false) := by show _ = _; rw [okRec, h3, Bool.and_false]; rfl
    clear h3
    go_wp2_with fail
    go_ret
    exact ⟨ret_bool HF.out.symm, HB.out⟩
  have HK : Hid (okRec e q k id n d = kindB k n d) := by show _ = _; rw [okRec, decide_eq_true h1, decide_eq_true h2, h3]; rfl
  clear h1 h2 h3
  by_cases k1 : k = 1
  · subst k1
    have HK1 : Hid (okRec e q 1 id n d = (decide (0 ≤ n ∧ n ≤ 1000000000) && decide (d = 0))) := HK.out
    clear HK
    go_wp2_with fail
    refine (l1In_any n 0 1000000000 _).mono ?_
    rintro r w1 ⟨rfl, rfl⟩
    by_cases h4 : 0 ≤ n ∧ n ≤ 1000000000
    · rw [decide_eq_true h4] at HK1 ⊢
      by_cases h5 : d = 0
      · subst h5
        go_wp2_with fail
        go_ret
        exact ⟨by rw [HK1.out]; rfl, HB.out⟩
      · have HF : Hid (okRec e q 1 id n d = false) := by show _ = _; rw [HK1.out, decide_eq_false h5]; rfl
        have h5b : ((d : Int) == 0) = false := by rw [beq_eq_false_iff_ne]; omega
        clear HK1
        go_wp2_with fail
        go_ret
        exact ⟨by rw [HF.out]; rfl, HB.out⟩
    · have HF : Hid (okRec e q 1 id n d = false) := by show _ = _; rw [HK1.out, decide_eq_false h4]; rfl
      rw [decide_eq_false h4]
      clear HK1
      go_wp2_with fail
      go_ret
      exact ⟨by rw [HF.out]; rfl, HB.out⟩
  have k1b : (k == 1) = false := by rw [beq_eq_false_iff_ne]; exact k1
  by_cases k2 : k = 2
  · subst k2
    have HK1 : Hid (okRec e q 2 id n d = (decide (0 ≤ n ∧ n ≤ 1000000000) && decide (1 ≤ d ∧ d ≤ 24))) := HK.out
    clear HK k1
    go_wp2_with fail
    refine (l1In_any n 0 1000000000 _).mono ?_
    rintro r w1 ⟨rfl, rfl⟩
    by_cases h4 : 0 ≤ n ∧ n ≤ 1000000000
    · rw [decide_eq_true h4] at HK1 ⊢
      have HF : Hid (okRec e q 2 id n d = decide ((1 : Int) ≤ (d : Int) ∧ (d : Int) ≤ 24)) := by
        show _ = _
        rw [HK1.out, Bool.true_and, decide_eq_decide]
        omega
      clear HK1
      go_wp2_with fail
      refine (l1In_any (d : Int) 1 24 _).mono ?_
      rintro r w1 ⟨rfl, rfl⟩
      by_cases h5 : (1 : Int) ≤ (d : Int) ∧ (d : Int) ≤ 24
      · rw [decide_eq_true h5] at HF ⊢
        go_wp2_with fail
        go_ret
        exact ⟨by rw [HF.out]; rfl, HB.out⟩
      · rw [decide_eq_false h5] at HF ⊢
        go_wp2_with fail
        go_ret
        exact ⟨by rw [HF.out]; rfl, HB.out⟩
    · have HF : Hid (okRec e q 2 id n d = false) := by show _ = _; rw [HK1.out, decide_eq_false h4]; rfl
      rw [decide_eq_false h4]
      clear HK1
      go_wp2_with fail
      go_ret
      exact ⟨by rw [HF.out]; rfl, HB.out⟩
  have k2b : (k == 2) = false := by rw [beq_eq_false_iff_ne]; exact k2
  by_cases k34 : k = 3 ∨ k = 4
  · have HK1 : Hid (okRec e q k id n d = (decide (n = 0) && decide (d = 0))) := by show _ = _; rw [HK.out, kindB, if_neg k1, if_neg k2, if_pos k34]
    clear HK k1 k2
    by_cases h4 : n = 0
    · subst h4
      by_cases h5 : d = 0
      · subst h5
        rcases k34 with rfl | rfl
        all_goals
          go_wp2_with fail
          go_ret
          exact ⟨by rw [HK1.out]; rfl, HB.out⟩
      · have HF : Hid (okRec e q k id 0 d = false) := by show _ = _; rw [HK1.out, decide_eq_false h5]; rfl
        have h5b : ((d : Int) == 0) = false := by rw [beq_eq_false_iff_ne]; omega
        clear HK1
        rcases k34 with rfl | rfl
        all_goals
          go_wp2_with fail
          go_ret
          exact ⟨by rw [HF.out]; rfl, HB.out⟩
    · have HF : Hid (okRec e q k id n d = false) := by show _ = _; rw [HK1.out, decide_eq_false h4]; rfl
      have h4b : (n == 0) = false := by rw [beq_eq_false_iff_ne]; exact h4
      clear HK1
      rcases k34 with rfl | rfl
      all_goals
        go_wp2_with fail
        go_ret
        exact ⟨by rw [HF.out]; rfl, HB.out⟩
  · have HF : Hid (okRec e q k id n d = false) := by show _ = _; rw [HK.out, kindB, if_neg k1, if_neg k2, if_neg k34]
    have k3b : (k == 3) = false := by rw [beq_eq_false_iff_ne]; omega
    have k4b : (k == 4) = false := by rw [beq_eq_false_iff_ne]; omega
    clear HK k1 k2 k34
    go_wp2_with fail
    go_ret
    exact ⟨by rw [HF.out]; rfl, HB.out⟩

end Go.Proofs.YtenkpgnkkkgdmauGreatDoor
