/- Whether a frame may come behind what is gathered: the model, and the program's own look. -/
import Derived.Test.YtpjldfpipchmjadDoorGaOk
import Derived.Test.YtpjldfpipchmjadDoorFrCode
import Derived.Test.YtpjldfpipchmjadDoorBox3
import Derived.Deep.CutBlock
namespace Go.Proofs.YtpjldfpipchmjadDoor
open Go.RowKit
set_option linter.unusedVariables false

/-- May this frame come behind what is gathered? -/
def ordB (s : Int) (en : Bool) (n : Nat) (k f fs : Int) (m : Nat) : Bool := okG s en n && (codeF k f fs m == 0) && (if s = 0 then !(k == 9) else (k == 9) && (fs == s))

set_option maxRecDepth 10000 in
set_option maxHeartbeats 1600000 in
theorem inOrder_any (s : Int) (en : Bool) (a : Option Addr) (n cap : Nat) (k f fs : Int) (b : Option Addr) (m capb : Nat) (w : World) :
    Calls Tryd.prog 58 #[.agg #[.int .i64 s, .bool en, .slice a n cap], .agg #[.int .i64 k, .int .i64 f, .int .i64 fs, .slice b m capb]] w fun e w' => e = .returned (.bool (ordB s en n k f fs m)) ∧ Below w.heap.size w w' := by
  obtain ⟨W2, hW2⟩ : ∃ W2, (w.alloc (.cells #[.int .i64 s, .bool en, .slice a n cap] 30)).alloc (.cells #[.int .i64 k, .int .i64 f, .int .i64 fs, .slice b m capb] 33) = W2 := ⟨_, rfl⟩
  have q1 : Box3 W2 w.heap.size 30 (.int .i64 s) (.bool en) (.slice a n cap) := by rw [← hW2]; exact (Box3.new _ _ _ _ _).alloc _
  have q2 : Box4 W2 (w.heap.size + 1) 33 (.int .i64 k) (.int .i64 f) (.int .i64 fs) (.slice b m capb) := by
    rw [← hW2]
    have := Box4.new (w.alloc (.cells #[.int .i64 s, .bool en, .slice a n cap] 30)) 33 (.int .i64 k) (.int .i64 f) (.int .i64 fs) (.slice b m capb)
    rwa [World.size_alloc] at this
  have HB2 : Hid (Below w.heap.size w W2) := by show Below _ _ _; rw [← hW2]; exact ((Below.refl _ _).alloc (Nat.le_refl _) _).alloc (by simp) _
  have HQ : Hid (∀ W, Below W2.heap.size W2 W → Box3 W w.heap.size 30 (.int .i64 s) (.bool en) (.slice a n cap) ∧ Box4 W (w.heap.size + 1) 33 (.int .i64 k) (.int .i64 f) (.int .i64 fs) (.slice b m capb)) := fun W h => ⟨q1.stays h, q2.stays h⟩
  have HE2 : Hid ((w.alloc (.cells #[.int .i64 s, .bool en, .slice a n cap] 30)).alloc (.cells #[.int .i64 k, .int .i64 f, .int .i64 fs, .slice b m capb] 33) = W2) := hW2
  clear hW2
  obtain ⟨c0, c1, c2⟩ := q1.cells
  clear q1 q2
  obtain ⟨r, hr⟩ : ∃ r, ordB s en n k f fs m = r := ⟨_, rfl⟩
  have HR : Hid (ordB s en n k f fs m = r) := hr
  rw [hr]
  clear hr
  cases ho : okG s en n with
  | false =>
    have HO : Hid (okG s en n = false) := ho
    have HRf : Hid (r = false) := by show _ = _; rw [← HR.out, ordB, ho]; rfl
    clear ho
    go_enter Tryd.func58, Tryd.ntmps58
    go_upto_region 1 with fail
    rw [HE2.out]
    go_wp2_with fail
    refine (implGok_any s en a n cap _).mono ?_
    rintro e x1 ⟨rfl, hb1⟩
    have HB3 : Hid (Below w.heap.size w x1) := HB2.out.trans (hb1.mono HB2.out.size)
    rw [HO.out]
    clear hb1
    go_wp2_with fail
    go_ret
    exact ⟨ret_bool HRf.out.symm, HB3.out⟩
  | true =>
    have HO : Hid (okG s en n = true) := ho
    clear ho
    obtain ⟨cd, hcd⟩ : ∃ cd, codeF k f fs m = cd := ⟨_, rfl⟩
    have HC : Hid (codeF k f fs m = cd) := hcd
    clear hcd
    go_enter Tryd.func58, Tryd.ntmps58
    go_upto_region 1 with fail
    rw [HE2.out]
    go_wp2_with fail
    refine (implGok_any s en a n cap _).mono ?_
    rintro e x1 ⟨rfl, hb1⟩
    rw [HO.out]
    have HB3 : Hid (Below w.heap.size w x1) := HB2.out.trans (hb1.mono HB2.out.size)
    have HX1 : Hid (Below W2.heap.size W2 x1) := hb1
    clear hb1 c0 c1 c2
    obtain ⟨d0, d1, d2, d3⟩ := (HQ.out _ HX1.out).2.cells
    go_wp2_with fail
    refine (implCode_any k f fs b m capb _).mono ?_
    rintro e x2 ⟨rfl, hb2⟩
    rw [HC.out]
    have HB4 : Hid (Below w.heap.size w x2) := HB3.out.trans (hb2.mono HB3.out.size)
    have HX2 : Hid (Below W2.heap.size W2 x2) := HX1.out.trans (hb2.mono HX1.out.size)
    clear hb2 d0 d1 d2 d3 HB3 HX1
    obtain ⟨c0, c1, c2⟩ := (HQ.out _ HX2.out).1.cells
    obtain ⟨d0, d1, d2, d3⟩ := (HQ.out _ HX2.out).2.cells
    by_cases hc0 : cd = 0
    · have HRt : Hid (r = if s = 0 then !(k == 9) else (k == 9) && (fs == s)) := by
        show _ = _
        rw [← HR.out, ordB, HO.out, HC.out, hc0]
        simp only [beq_self_eq_true, Bool.and_self, Bool.true_and]
      subst hc0
      by_cases hs0 : s = 0
      · subst hs0
        go_wp2_with fail
        go_ret
        exact ⟨ret_bool (by rw [HRt.out]; simp [bne]), HB4.out⟩
      · have hsz : (s == 0) = false := by simpa using hs0
        cases hk : (k == 9) with
        | false =>
          go_wp2_with fail
          go_ret
          exact ⟨ret_bool (by rw [HRt.out, if_neg hs0, hk]; simp), HB4.out⟩
        | true =>
          go_wp2_with fail
          go_ret
          exact ⟨ret_bool (by rw [HRt.out, if_neg hs0, hk]; simp), HB4.out⟩
    · have hne : (cd != 0) = true := by simpa using hc0
      have HRf : Hid (r = false) := by
        show _ = _
        rw [← HR.out, ordB, HO.out, HC.out]
        have : (cd == 0) = false := by simpa using hc0
        rw [this]
        rfl
      go_wp2_with fail
      go_ret
      exact ⟨ret_bool HRf.out.symm, HB4.out⟩

end Go.Proofs.YtpjldfpipchmjadDoor
