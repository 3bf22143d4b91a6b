/- What the program's ClientOk answers. -/
import Derived.Test.YtlalebaaabdihaxClN
import Derived.Test.YtlalebaaabdihaxReqIdI
import Derived.Test.YtlalebaaabdihaxBoxN
import Derived.Deep.CutBlock
namespace Go.Proofs.Ytlalebaaabdihax
open Go.RowKit
set_option linter.unusedVariables false

set_option maxRecDepth 10000 in
set_option maxHeartbeats 1600000 in
theorem implClOk_any (id : ByteArray) (a : Option Addr) (n ca : Nat) (st off : Int) (w : World) (hi : id.size ≤ maxLen) (hn : n ≤ 1099511627776) :
    Calls Try.prog 58 #[.agg #[.string id, .slice a n ca, .int .i64 st, .int .i64 off]] w fun e w' => e = .returned (.bool (okC id n st off)) ∧ Below w.heap.size w w' := by
  have HI : Hid (okC id n st off = true ↔ idB id.data.toList = true ∧ n ≤ 400 ∧ (1 ≤ st ∧ st ≤ 6) ∧ 0 ≤ off ∧ off ≤ (n : Int)) := okC_iff
  have hmm : maxLen < 9223372036854775808 := by decide
  obtain ⟨w0, hw0⟩ : ∃ w0, w.alloc (.cells #[.string id, .slice a n ca, .int .i64 st, .int .i64 off] 30) = w0 := ⟨_, rfl⟩
  have HE : Hid (w.alloc (.cells #[.string id, .slice a n ca, .int .i64 st, .int .i64 off] 30) = w0) := hw0
  have HQ0 : Hid (BoxN w0 w.heap.size 30 [.string id, .slice a n ca, .int .i64 st, .int .i64 off]) := by show BoxN _ _ _ _; rw [← hw0]; exact BoxN.new _ _ _
  have HB : Hid (Below w.heap.size w w0) := by show Below _ _ _; rw [← hw0]; exact (Below.refl _ _).alloc (Nat.le_refl _) _
  clear hw0
  obtain ⟨c0, c1, c2, c3⟩ := (show _ ∧ _ ∧ _ ∧ _ from ⟨HQ0.out.cell 0 rfl, HQ0.out.cell 1 rfl, HQ0.out.cell 2 rfl, HQ0.out.cell 3 rfl⟩)
  go_enter Try.func58, Try.ntmps58
  go_upto_region 1 with fail
  rw [HE.out]
  clear HE
  go_wp2_with fail
  refine (implId_any id _ (by omega)).mono ?_
  rintro e w2 ⟨rfl, hb2⟩
  have HB2 : Hid (Below w.heap.size w w2) := HB.out.trans (hb2.mono HB.out.size)
  have HQ2 : Hid (BoxN w2 w.heap.size 30 [.string id, .slice a n ca, .int .i64 st, .int .i64 off]) := HQ0.out.stays hb2
  clear hb2 HB HQ0 c0 c1 c2 c3
  obtain ⟨c0, c1, c2, c3⟩ := (show _ ∧ _ ∧ _ ∧ _ from ⟨HQ2.out.cell 0 rfl, HQ2.out.cell 1 rfl, HQ2.out.cell 2 rfl, HQ2.out.cell 3 rfl⟩)
  by_cases hb1 : idB id.data.toList = true
  case neg =>
    have HF : Hid (okC id n st off = false) := by show _ = _; rw [Bool.eq_false_iff]; intro h; exact hb1 (HI.out.1 h).1
    rw [Bool.not_eq_true] at hb1
    rw [hb1]
    clear hb1
    go_wp2_with fail
    go_ret
    exact ⟨ret_bool' HF.out.symm, HB2.out⟩
  have HB1 : Hid (idB id.data.toList = true) := hb1
  rw [hb1]
  clear hb1
  by_cases q0 : n ≤ 400
  case neg =>
    have HF : Hid (okC id n st off = false) := by show _ = _; rw [Bool.eq_false_iff]; intro h; have := HI.out.1 h; omega
    have g0 : ¬ (n : Int) ≤ 400 := by omega
    clear q0
    go_wp2_with fail
    go_ret
    exact ⟨ret_bool' HF.out.symm, HB2.out⟩
  have g0 : (n : Int) ≤ 400 := by omega
  by_cases q1 : 1 ≤ st
  case neg =>
    have HF : Hid (okC id n st off = false) := by show _ = _; rw [Bool.eq_false_iff]; intro h; have := HI.out.1 h; omega
    have g1 : ¬ (1 : Int) ≤ st := by omega
    clear q1
    go_wp2_with fail
    go_ret
    exact ⟨ret_bool' HF.out.symm, HB2.out⟩
  have g1 : (1 : Int) ≤ st := by omega
  by_cases q2 : st ≤ 6
  case neg =>
    have HF : Hid (okC id n st off = false) := by show _ = _; rw [Bool.eq_false_iff]; intro h; have := HI.out.1 h; omega
    have g2 : ¬ st ≤ 6 := by omega
    clear q2
    go_wp2_with fail
    go_ret
    exact ⟨ret_bool' HF.out.symm, HB2.out⟩
  have g2 : st ≤ 6 := by omega
  by_cases q3 : 0 ≤ off
  case neg =>
    have HF : Hid (okC id n st off = false) := by show _ = _; rw [Bool.eq_false_iff]; intro h; have := HI.out.1 h; omega
    have g3 : ¬ (0 : Int) ≤ off := by omega
    clear q3
    go_wp2_with fail
    go_ret
    exact ⟨ret_bool' HF.out.symm, HB2.out⟩
  have g3 : (0 : Int) ≤ off := by omega
  by_cases q4 : off ≤ (n : Int)
  case neg =>
    have HF : Hid (okC id n st off = false) := by show _ = _; rw [Bool.eq_false_iff]; intro h; have := HI.out.1 h; omega
    have g4 : ¬ off ≤ (n : Int) := by omega
    clear q4
    go_wp2_with fail
    go_ret
    exact ⟨ret_bool' (by simp [HF.out, g4]), HB2.out⟩
  have g4 : off ≤ (n : Int) := by omega
  have HF : Hid (okC id n st off = true) := HI.out.2 ⟨HB1.out, q0, ⟨q1, q2⟩, q3, q4⟩
  clear q0 q1 q2 q3 q4
  go_wp2_with fail
  go_ret
  exact ⟨ret_bool' (by simp [HF.out]), HB2.out⟩

end Go.Proofs.Ytlalebaaabdihax
