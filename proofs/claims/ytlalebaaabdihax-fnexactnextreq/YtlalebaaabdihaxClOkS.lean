/- What the specification's ClientOk answers. -/
import Derived.Test.YtlalebaaabdihaxClN
import Derived.Test.YtlalebaaabdihaxIdS
import Derived.Test.YtlalebaaabdihaxBoxN
import Derived.Deep.CutBlock
namespace Go.Proofs.Ytlalebaaabdihax
open Go.RowKit
set_option linter.unusedVariables false

set_option maxRecDepth 10000 in
set_option maxHeartbeats 1600000 in
theorem specClOk_any (id : ByteArray) (a : Option Addr) (n ca : Nat) (st off : Int) (w : World) (hi : id.size ≤ maxLen) (hn : n ≤ 1099511627776) :
    Calls Try.prog 25 #[.agg #[.string id, .slice a n ca, .int .i64 st, .int .i64 off]] w fun e w' => e = .returned (.bool (okC id n st off)) ∧ Below w.heap.size w w' := by
  have HR : Hid (okC id n st off = (idB id.data.toList && decide (n ≤ 400) && decide (1 ≤ st ∧ st ≤ 6) && decide (0 ≤ off ∧ off ≤ (n : Int)))) := rfl
  have hmm : maxLen < 9223372036854775808 := by decide
  obtain ⟨w0, hw0⟩ : ∃ w0, w.alloc (.cells #[.string id, .slice a n ca, .int .i64 st, .int .i64 off] 30) = w0 := ⟨_, rfl⟩
  have HE : Hid (w.alloc (.cells #[.string id, .slice a n ca, .int .i64 st, .int .i64 off] 30) = w0) := hw0
  have HQ0 : Hid (BoxN w0 w.heap.size 30 [.string id, .slice a n ca, .int .i64 st, .int .i64 off]) := by show BoxN _ _ _ _; rw [← hw0]; exact BoxN.new _ _ _
  have HB : Hid (Below w.heap.size w w0) := by show Below _ _ _; rw [← hw0]; exact (Below.refl _ _).alloc (Nat.le_refl _) _
  clear hw0
  obtain ⟨c0, c1, c2, c3⟩ := (show _ ∧ _ ∧ _ ∧ _ from ⟨HQ0.out.cell 0 rfl, HQ0.out.cell 1 rfl, HQ0.out.cell 2 rfl, HQ0.out.cell 3 rfl⟩)
  go_enter Try.func25, Try.ntmps25
  go_upto_region 1 with fail
  rw [HE.out]
  clear HE
  go_wp2_with fail
  refine (specId_any id _ (by omega)).mono ?_
  rintro e w2 ⟨rfl, hw2⟩
  subst hw2
  generalize idB id.data.toList = b1 at *
  cases b1
  · go_wp2_with fail
    go_ret
    exact ⟨ret_bool (by rw [HR.out]; rfl), HB.out⟩
  by_cases hn4 : n ≤ 400
  case neg =>
    have HF : Hid (okC id n st off = false) := by show _ = _; rw [HR.out, decide_eq_false hn4]; rfl
    have h4 : ¬ (n : Int) ≤ 400 := by omega
    clear hn4
    go_wp2_with fail
    go_ret
    exact ⟨ret_bool HF.out.symm, HB.out⟩
  have HR2 : Hid (okC id n st off = (decide (1 ≤ st ∧ st ≤ 6) && decide (0 ≤ off ∧ off ≤ (n : Int)))) := by show _ = _; rw [HR.out, decide_eq_true hn4]; rfl
  have h4 : (n : Int) ≤ 400 := by omega
  clear HR hn4
  go_wp2_with fail
  refine (l1In_any st 1 6 _).mono ?_
  rintro e w3 ⟨rfl, hw3⟩
  subst hw3
  generalize decide (1 ≤ st ∧ st ≤ 6) = b2 at *
  cases b2
  · go_wp2_with fail
    go_ret
    exact ⟨ret_bool (by rw [HR2.out]; rfl), HB.out⟩
  go_wp2_with fail
  refine (l1In_any off 0 (n : Int) _).mono ?_
  rintro e w4 ⟨rfl, hw4⟩
  subst hw4
  generalize decide (0 ≤ off ∧ off ≤ (n : Int)) = b3 at *
  go_wp2_with fail
  go_ret
  exact ⟨ret_bool (by rw [HR2.out]; rfl), HB.out⟩

end Go.Proofs.Ytlalebaaabdihax
