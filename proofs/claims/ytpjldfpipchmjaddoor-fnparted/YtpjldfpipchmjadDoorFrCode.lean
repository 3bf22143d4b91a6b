/- What the program's FrameCode answers. -/
import Derived.Test.YtpjldfpipchmjadDoorFrSize
import Derived.Test.YtpjldfpipchmjadDoorBox4
namespace Go.Proofs.YtpjldfpipchmjadDoor
open Go.RowKit
set_option linter.unusedVariables false

set_option maxHeartbeats 1600000 in
theorem implCode_any (k f s : Int) (a : Option Addr) (len cap : Nat) (w : World) :
    Calls Tryd.prog 10 #[.agg #[.int .i64 k, .int .i64 f, .int .i64 s, .slice a len cap]] w fun e w' => e = .returned (.int .i64 (codeF k f s len)) ∧ Below w.heap.size w w' := by
  have HB0 : Hid (Below w.heap.size w (w.alloc (.cells #[.int .i64 k, .int .i64 f, .int .i64 s, .slice a len cap] 33))) := (Below.refl _ _).alloc (Nat.le_refl _) _
  cases ho : okF k f s len with
  | false =>
    have hc : codeF k f s len = 2 := by unfold codeF; rw [ho]; simp
    rw [hc]
    clear hc
    have HO : Hid (okF k f s len = false) := ho
    clear ho
    go_enter Tryd.func10, Tryd.ntmps10
    go_wp2_with fail
    refine (implOk_any k f s a len cap _).mono ?_
    rintro e x1 ⟨rfl, hb1⟩
    have HB1 : Hid (Below w.heap.size w x1) := HB0.out.trans (hb1.mono HB0.out.size)
    clear hb1
    rw [HO.out]
    go_wp2_with fail
    go_ret
    exact ⟨rfl, HB1.out⟩
  | true =>
    have hl : len ≤ 1000 := (okF_yes ho).2.2.2
    obtain ⟨c, hc⟩ : ∃ c, codeF k f s len = c := ⟨_, rfl⟩
    have HC : Hid (codeF k f s len = c) := hc
    rw [hc]
    clear hc
    have HO : Hid (okF k f s len = true) := ho
    clear ho
    go_enter Tryd.func10, Tryd.ntmps10
    go_wp2_with fail
    refine (implOk_any k f s a len cap _).mono ?_
    rintro e x1 ⟨rfl, hb1⟩
    have HB1 : Hid (Below w.heap.size w x1) := HB0.out.trans (hb1.mono HB0.out.size)
    have HX1 : Hid (Box4 x1 w.heap.size 33 (.int .i64 k) (.int .i64 f) (.int .i64 s) (.slice a len cap)) := (Box4.new _ _ _ _ _ _).stays hb1
    clear hb1
    rw [HO.out]
    obtain ⟨a0, a1, a2, a3⟩ := HX1.out.cells
    go_wp2_with fail
    refine (implSize_any k f s a len cap _ hl).mono ?_
    rintro e x2 ⟨rfl, hb2⟩
    have HB2 : Hid (Below w.heap.size w x2) := HB1.out.trans (hb2.mono HB1.out.size)
    have HX2 : Hid (Box4 x2 w.heap.size 33 (.int .i64 k) (.int .i64 f) (.int .i64 s) (.slice a len cap)) := HX1.out.stays hb2
    clear hb2 a0 a1 a2 a3
    obtain ⟨a0, a1, a2, a3⟩ := HX2.out.cells
    cases hz : sizeF k f len with
    | false =>
      go_wp2_with fail
      go_ret
      exact ⟨ret_int (by rw [← HC.out, codeF, hz]; simp), HB2.out⟩
    | true =>
      have HZ : Hid (sizeF k f len = true) := hz
      clear hz
      go_wp2_with fail
      refine (implStream_any k f s a len cap _).mono ?_
      rintro e x3 ⟨rfl, hb3⟩
      have HB3 : Hid (Below w.heap.size w x3) := HB2.out.trans (hb3.mono HB2.out.size)
      clear hb3
      cases hz : streamF k s with
      | false =>
        go_wp2_with fail
        go_ret
        exact ⟨ret_int (by rw [← HC.out, codeF, HO.out, HZ.out, hz]; simp), HB3.out⟩
      | true =>
        go_wp2_with fail
        go_ret
        exact ⟨ret_int (by rw [← HC.out, codeF, HO.out, HZ.out, hz]; simp), HB3.out⟩

end Go.Proofs.YtpjldfpipchmjadDoor
