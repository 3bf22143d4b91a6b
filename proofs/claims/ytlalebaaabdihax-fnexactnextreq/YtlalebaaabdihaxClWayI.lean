/- Whether something is still to come of a client: the program's. -/
import Derived.Test.YtlalebaaabdihaxClOkI
import Derived.Deep.CutBlock
namespace Go.Proofs.Ytlalebaaabdihax
open Go.RowKit
set_option linter.unusedVariables false

set_option maxRecDepth 10000 in
set_option maxHeartbeats 1600000 in
theorem implWay_any (id : ByteArray) (a : Option Addr) (n ca : Nat) (st off : Int) (w : World) (hi : id.size ≤ maxLen) (hn : n ≤ 1099511627776) :
    Calls Try.prog 28 #[.agg #[.string id, .slice a n ca, .int .i64 st, .int .i64 off]] w fun e w' => e = .returned (.bool (wayC id n st off)) ∧ Below w.heap.size w w' := by
  have HI : Hid (wayC id n st off = true ↔ okC id n st off = true ∧ st ≠ 5 ∧ st ≠ 6) := wayC_iff
  have hmm : maxLen < 9223372036854775808 := by decide
  obtain ⟨w0, hw0⟩ : ∃ w0, w.alloc (.cells #[.string id, .slice a n ca, .int .i64 st, .int .i64 off] 30) = w0 := ⟨_, rfl⟩
  have HE : Hid (w.alloc (.cells #[.string id, .slice a n ca, .int .i64 st, .int .i64 off] 30) = w0) := hw0
  have HQ0 : Hid (BoxN w0 w.heap.size 30 [.string id, .slice a n ca, .int .i64 st, .int .i64 off]) := by show BoxN _ _ _ _; rw [← hw0]; exact BoxN.new _ _ _
  have HB : Hid (Below w.heap.size w w0) := by show Below _ _ _; rw [← hw0]; exact (Below.refl _ _).alloc (Nat.le_refl _) _
  clear hw0
  obtain ⟨c0, c1, c2, c3⟩ := (show _ ∧ _ ∧ _ ∧ _ from ⟨HQ0.out.cell 0 rfl, HQ0.out.cell 1 rfl, HQ0.out.cell 2 rfl, HQ0.out.cell 3 rfl⟩)
  go_enter Try.func28, Try.ntmps28
  go_upto_region 1 with fail
  rw [HE.out]
  clear HE
  go_wp2_with fail
  refine (implClOk_any id a n ca st off _ (by omega) hn).mono ?_
  rintro e w2 ⟨rfl, hb2⟩
  have HB2 : Hid (Below w.heap.size w w2) := HB.out.trans (hb2.mono HB.out.size)
  have HQ2 : Hid (BoxN w2 w.heap.size 30 [.string id, .slice a n ca, .int .i64 st, .int .i64 off]) := HQ0.out.stays hb2
  clear hb2 HB HQ0 c0 c1 c2 c3
  obtain ⟨c0, c1, c2, c3⟩ := (show _ ∧ _ ∧ _ ∧ _ from ⟨HQ2.out.cell 0 rfl, HQ2.out.cell 1 rfl, HQ2.out.cell 2 rfl, HQ2.out.cell 3 rfl⟩)
  by_cases hb1 : okC id n st off = true
  case neg =>
    have HF : Hid (wayC id n st off = false) := by show _ = _; rw [Bool.eq_false_iff]; intro h; exact hb1 (HI.out.1 h).1
    rw [Bool.not_eq_true] at hb1
    rw [hb1]
    clear hb1
    go_wp2_with fail
    go_ret
    exact ⟨ret_bool' HF.out.symm, HB2.out⟩
  have HB1 : Hid (okC id n st off = true) := hb1
  rw [hb1]
  clear hb1
  by_cases h5 : st = 5
  · have HF : Hid (wayC id n st off = false) := by show _ = _; rw [Bool.eq_false_iff]; intro h; exact (HI.out.1 h).2.1 h5
    have g5 : (st != 5) = false := by simp [h5]
    clear h5
    go_wp2_with fail
    go_ret
    exact ⟨ret_bool' HF.out.symm, HB2.out⟩
  have g5 : (st != 5) = true := by simp [h5]
  by_cases h6 : st = 6
  · have HF : Hid (wayC id n st off = false) := by show _ = _; rw [Bool.eq_false_iff]; intro h; exact (HI.out.1 h).2.2 h6
    have g6 : (st != 6) = false := by simp [h6]
    clear h5 h6
    go_wp2_with fail
    go_ret
    exact ⟨ret_bool' HF.out.symm, HB2.out⟩
  have HF : Hid (wayC id n st off = true) := HI.out.2 ⟨HB1.out, h5, h6⟩
  have g6 : (st != 6) = true := by simp [h6]
  clear h5 h6
  go_wp2_with fail
  go_ret
  exact ⟨ret_bool' HF.out.symm, HB2.out⟩

end Go.Proofs.Ytlalebaaabdihax
