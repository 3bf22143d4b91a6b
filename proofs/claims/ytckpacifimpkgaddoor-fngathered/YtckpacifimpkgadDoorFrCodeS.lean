/- What the specification's FrameCode answers. -/
import Derived.Test.YtckpacifimpkgadDoorFrSizeS
import Derived.Test.YtckpacifimpkgadDoorFrOkS
import Derived.Test.YtckpacifimpkgadDoorBox4
namespace Go.Proofs.YtckpacifimpkgadDoor
open Go.RowKit
set_option linter.unusedVariables false

set_option maxHeartbeats 1600000 in
theorem specCode_any (k f s : Int) (a : Option Addr) (len cap : Nat) (w : World) :
    Calls Tryd.prog 35 #[.agg #[.int .i64 k, .int .i64 f, .int .i64 s, .slice a len cap]] w fun e w' => e = .returned (.int .i64 (codeF k f s len)) ∧ Below w.heap.size w w' := by
  have HB0 : Hid (Below w.heap.size w (w.alloc (.cells #[.int .i64 k, .int .i64 f, .int .i64 s, .slice a len cap] 33))) := (Below.refl _ _).alloc (Nat.le_refl _) _
  cases ho : okF k f s len with
  | false =>
    have hc : codeF k f s len = 2 := by unfold codeF; rw [ho]; simp
    rw [hc]
    clear hc
    have HO : Hid (okF k f s len = false) := ho
    clear ho
    go_enter Tryd.func35, Tryd.ntmps35
    go_wp2_with fail
    refine (specOk_any k f s a len cap _).mono ?_
    rintro e x1 ⟨rfl, hb1⟩
    have HB1 : Hid (Below w.heap.size w x1) := HB0.out.trans (hb1.mono HB0.out.size)
    clear hb1
    rw [HO.out]
    go_wp2_with fail
    go_ret
    exact ⟨rfl, HB1.out⟩
  | true =>
    have hl : len ≤ 1000 := (okF_yes ho).2.2.2
    obtain ⟨c, hc⟩ : ∃ c, codeF k f s len = c := ⟨_, rfl⟩
    have HC : Hid (codeF k f s len = c) := hc
    rw [hc]
    clear hc
    have HO : Hid (okF k f s len = true) := ho
    clear ho
    go_enter Tryd.func35, Tryd.ntmps35
    go_wp2_with fail
    refine (specOk_any k f s a len cap _).mono ?_
    rintro e x1 ⟨rfl, hb1⟩
    have HB1 : Hid (Below w.heap.size w x1) := HB0.out.trans (hb1.mono HB0.out.size)
    have HX1 : Hid (Box4 x1 w.heap.size 33 (.int .i64 k) (.int .i64 f) (.int .i64 s) (.slice a len cap)) := (Box4.new _ _ _ _ _ _).stays hb1
    clear hb1
    rw [HO.out]
    obtain ⟨a0, a1, a2, a3⟩ := HX1.out.cells
    go_wp2_with fail
    refine (specSize_any k f s a len cap _ hl).mono ?_
    rintro e x2 ⟨rfl, hb2⟩
    have HB2 : Hid (Below w.heap.size w x2) := HB1.out.trans (hb2.mono HB1.out.size)
    have HX2 : Hid (Box4 x2 w.heap.size 33 (.int .i64 k) (.int .i64 f) (.int .i64 s) (.slice a len cap)) := HX1.out.stays hb2
    clear hb2 a0 a1 a2 a3
    obtain ⟨a0, a1, a2, a3⟩ := HX2.out.cells
    cases hz : sizeF k f len with
    | false =>
      go_wp2_with fail
      go_ret
      exact ⟨ret_int (by rw [← HC.out, codeF, hz]; simp), HB2.out⟩
    | true =>
      have HZ : Hid (sizeF k f len = true) := hz
      clear hz
      by_cases k0 : k = 0
      case pos =>
        subst k0
        by_cases hs : s = 0
        case pos =>
          subst hs
          go_wp2
          go_ret
          exact ⟨ret_int (by rw [← HC.out, codeF, HO.out, HZ.out]; simp [streamF]), HB2.out⟩
        case neg =>
          have hsb : (s == 0) = false := by simpa using hs
          have hsn : (s != 0) = true := by simpa using hs
          go_wp2
          go_ret
          exact ⟨ret_int (by rw [← HC.out, codeF, HO.out, HZ.out]; simp [streamF, hs]), HB2.out⟩
      by_cases k1 : k = 1
      case pos =>
        subst k1
        by_cases hs : s = 0
        case pos =>
          subst hs
          go_wp2
          go_ret
          exact ⟨ret_int (by rw [← HC.out, codeF, HO.out, HZ.out]; simp [streamF]), HB2.out⟩
        case neg =>
          have hsb : (s == 0) = false := by simpa using hs
          have hsn : (s != 0) = true := by simpa using hs
          go_wp2
          go_ret
          exact ⟨ret_int (by rw [← HC.out, codeF, HO.out, HZ.out]; simp [streamF, hs]), HB2.out⟩
      by_cases k2 : k = 2
      case pos =>
        subst k2
        by_cases hs : s = 0
        case pos =>
          subst hs
          go_wp2
          go_ret
          exact ⟨ret_int (by rw [← HC.out, codeF, HO.out, HZ.out]; simp [streamF]), HB2.out⟩
        case neg =>
          have hsb : (s == 0) = false := by simpa using hs
          have hsn : (s != 0) = true := by simpa using hs
          go_wp2
          go_ret
          exact ⟨ret_int (by rw [← HC.out, codeF, HO.out, HZ.out]; simp [streamF, hs]), HB2.out⟩
      by_cases k3 : k = 3
      case pos =>
        subst k3
        by_cases hs : s = 0
        case pos =>
          subst hs
          go_wp2
          go_ret
          exact ⟨ret_int (by rw [← HC.out, codeF, HO.out, HZ.out]; simp [streamF]), HB2.out⟩
        case neg =>
          have hsb : (s == 0) = false := by simpa using hs
          have hsn : (s != 0) = true := by simpa using hs
          go_wp2
          go_ret
          exact ⟨ret_int (by rw [← HC.out, codeF, HO.out, HZ.out]; simp [streamF, hs]), HB2.out⟩
      by_cases k5 : k = 5
      case pos =>
        subst k5
        by_cases hs : s = 0
        case pos =>
          subst hs
          go_wp2
          go_ret
          exact ⟨ret_int (by rw [← HC.out, codeF, HO.out, HZ.out]; simp [streamF]), HB2.out⟩
        case neg =>
          have hsb : (s == 0) = false := by simpa using hs
          have hsn : (s != 0) = true := by simpa using hs
          go_wp2
          go_ret
          exact ⟨ret_int (by rw [← HC.out, codeF, HO.out, HZ.out]; simp [streamF, hs]), HB2.out⟩
      by_cases k9 : k = 9
      case pos =>
        subst k9
        by_cases hs : s = 0
        case pos =>
          subst hs
          go_wp2
          go_ret
          exact ⟨ret_int (by rw [← HC.out, codeF, HO.out, HZ.out]; simp [streamF]), HB2.out⟩
        case neg =>
          have hsb : (s == 0) = false := by simpa using hs
          have hsn : (s != 0) = true := by simpa using hs
          go_wp2
          go_ret
          exact ⟨ret_int (by rw [← HC.out, codeF, HO.out, HZ.out]; simp [streamF, hs]), HB2.out⟩
      by_cases k4 : k = 4
      case pos =>
        subst k4
        by_cases hs : s = 0
        case pos =>
          subst hs
          go_wp2
          go_ret
          exact ⟨ret_int (by rw [← HC.out, codeF, HO.out, HZ.out]; simp [streamF]), HB2.out⟩
        case neg =>
          have hsb : (s == 0) = false := by simpa using hs
          have hsn : (s != 0) = true := by simpa using hs
          go_wp2
          go_ret
          exact ⟨ret_int (by rw [← HC.out, codeF, HO.out, HZ.out]; simp [streamF, hs]), HB2.out⟩
      by_cases k6 : k = 6
      case pos =>
        subst k6
        by_cases hs : s = 0
        case pos =>
          subst hs
          go_wp2
          go_ret
          exact ⟨ret_int (by rw [← HC.out, codeF, HO.out, HZ.out]; simp [streamF]), HB2.out⟩
        case neg =>
          have hsb : (s == 0) = false := by simpa using hs
          have hsn : (s != 0) = true := by simpa using hs
          go_wp2
          go_ret
          exact ⟨ret_int (by rw [← HC.out, codeF, HO.out, HZ.out]; simp [streamF, hs]), HB2.out⟩
      by_cases k7 : k = 7
      case pos =>
        subst k7
        by_cases hs : s = 0
        case pos =>
          subst hs
          go_wp2
          go_ret
          exact ⟨ret_int (by rw [← HC.out, codeF, HO.out, HZ.out]; simp [streamF]), HB2.out⟩
        case neg =>
          have hsb : (s == 0) = false := by simpa using hs
          have hsn : (s != 0) = true := by simpa using hs
          go_wp2
          go_ret
          exact ⟨ret_int (by rw [← HC.out, codeF, HO.out, HZ.out]; simp [streamF, hs]), HB2.out⟩
      have b0 : (k == 0) = false := by simpa using k0
      have b1 : (k == 1) = false := by simpa using k1
      have b2 : (k == 2) = false := by simpa using k2
      have b3 : (k == 3) = false := by simpa using k3
      have b5 : (k == 5) = false := by simpa using k5
      have b9 : (k == 9) = false := by simpa using k9
      have b4 : (k == 4) = false := by simpa using k4
      have b6 : (k == 6) = false := by simpa using k6
      have b7 : (k == 7) = false := by simpa using k7
      go_wp2
      go_ret
      exact ⟨ret_int (by rw [← HC.out, codeF, HO.out, HZ.out]; simp [streamF, k0, k1, k2, k3, k5, k9, k4, k6, k7]), HB2.out⟩

end Go.Proofs.YtckpacifimpkgadDoor
