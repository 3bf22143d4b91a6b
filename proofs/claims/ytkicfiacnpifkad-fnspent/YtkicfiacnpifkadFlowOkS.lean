/- What the specification's FlowOk answers: whether a flow is right; nothing that was there is written. -/
import Derived.Test.YtkicfiacnpifkadFlowNum
import Derived.Test.YtkicfiacnpifkadBox3
import Derived.Test.YtkicfiacnpifkadL1In
import Derived.Deep.QuietTactic
namespace Go.Proofs.Ytkicfiacnpifkad
open Go.RowKit
set_option linter.unusedVariables false

set_option maxRecDepth 10000 in
set_option maxHeartbeats 800000 in
theorem specFok_any (c i : Int) (a : Option Addr) (len cap : Nat) (l : List Lane) (w : World) (hs : Lanes w a len l) (hl : len ≤ 1099511627776) :
    Calls Try.prog 52 #[.agg #[.int .i64 c, .int .i64 i, .slice a len cap]] w fun e w' => e = .returned (.bool (okB c i l)) ∧ Below w.heap.size w w' := by
  have HL : Hid (l.length = len) := hs.1
  have HS : Hid (Lanes w a len l) := hs
  clear hs
  have HB0 : Hid (Below w.heap.size w (w.alloc (.cells #[.int .i64 c, .int .i64 i, .slice a len cap] 36))) := (Below.refl _ _).alloc (Nat.le_refl _) _
  have HX0 : Hid (Box3 (w.alloc (.cells #[.int .i64 c, .int .i64 i, .slice a len cap] 36)) w.heap.size 36 (.int .i64 c) (.int .i64 i) (.slice a len cap)) := Box3.new _ _ _ _ _
  go_enter Try.func52, Try.ntmps52
  go_wp2_with fail
  go_loopw [3] (fun v wr => ∃ k : Nat, k ≤ len ∧ v = .int .i64 k ∧ Hid (Box3 wr w.heap.size 36 (.int .i64 c) (.int .i64 i) (.slice a len cap) ∧ Below w.heap.size w wr) ∧ Hid (∀ j, j < k → ¬ badAt l j)) (fun v _ => len - (intOf v).toNat)
  case atStart => exact ⟨0, Nat.zero_le _, rfl, ⟨HX0.out, HB0.out⟩, fun j hj => absurd hj (Nat.not_lt_zero _)⟩
  case round =>
    clear HX0 HB0
    obtain ⟨k, hk, rfl, HX, HN⟩ := hrel
    obtain ⟨c0, c1, c2⟩ := HX.out.1.cells
    by_cases hlt : k < len
    · have hki : (k : Int) < (len : Int) := by omega
      obtain ⟨b, off, p, q, rfl, hb, hkx, hp, hq, _, _⟩ := (HS.out.below HX.out.2).at hlt
      have HA : Hid (laneAt l k = (p, q)) := laneAt_some hkx
      have hwl : w.heap.size < wr.heap.size := HX.out.1.lt
      have HBad : Hid (badAt l k → okB c i l = false) := fun h => okB_no fun g => g.1 k (by have := HL.out; omega) h
      have HGood : Hid (¬ badAt l k → ∀ j, j < k + 1 → ¬ badAt l j) := fun h j hj => by
        by_cases e : j = k
        · rw [e]; exact h
        · exact HN.out j (by omega)
      clear hkx HN
      by_cases g1 : p < 1
      · go_wp2_with fail
        go_quiet (fail)
        go_wp2_with fail
        go_ret
        exact ⟨ret_bool (HBad.out (.inl (by rw [HA.out]; exact g1))).symm, below_drewN (HX.out.2.alloc HX.out.2.size _) _⟩
      have d1 : decide (p < 1) = false := by simpa using g1
      have p1 : (p < 1) = False := by simpa using g1
      by_cases g2 : -2147483647 ≤ q ∧ q ≤ 2147483647
      case neg =>
        have HIn : Hid (∀ W : World, Calls Try.prog 39 #[.int .i64 q, .int .i64 (-2147483647), .int .i64 2147483647] W fun e w' => e = .returned (.bool false) ∧ w' = W) := fun W => l1In_no _ _ _ W (by omega)
        have HG : Hid (badAt l k) := .inr (.inl (by rw [HA.out]; exact g2))
        clear g2
        go_wp2_with fail
        go_quiet (first | (go_at_call 39; exact Calls.quiet_of_same (HIn.out _)))
        go_wp2_with fail
        go_ret
        exact ⟨ret_bool (HBad.out HG.out).symm, below_drewN (HX.out.2.alloc HX.out.2.size _) _⟩
      have HIn : Hid (∀ W : World, Calls Try.prog 39 #[.int .i64 q, .int .i64 (-2147483647), .int .i64 2147483647] W fun e w' => e = .returned (.bool true) ∧ w' = W) := fun W => l1In_yes _ _ _ W g2.1 g2.2
      have HG2 : Hid (-2147483647 ≤ q ∧ q ≤ 2147483647) := g2
      clear g2
      by_cases k0 : k = 0
      · have hk0 : ¬ (0 : Int) < (k : Int) := by omega
        have dk0 : decide ((0 : Int) < (k : Int)) = false := by simpa using k0
        have dk1 : ((0 : Int) < (k : Int)) = False := by simpa using k0
        have dk2 : decide (0 < k) = false := by simpa using k0
        have dk3 : (0 < k) = False := by simpa using k0
        have HG : Hid (¬ badAt l k) := by
          show ¬ _
          unfold badAt
          rw [HA.out]
          dsimp only
          have := HG2.out
          omega
        clear k0 hk0
        go_wp2_with fail
        go_quiet (first | (go_at_call 39; exact Calls.quiet_of_same (HIn.out _)))
        go_wp2_with fail
        go_roundw
        case rel => exact ⟨k + 1, by omega, by go_num, ⟨(HX.out.1.alloc _), below_drewN (HX.out.2.alloc HX.out.2.size _) _⟩, HGood.out HG.out⟩
        case measure => simp [intOf]; omega
      obtain ⟨j, rfl⟩ : ∃ j, k = j + 1 := ⟨k - 1, by omega⟩
      obtain ⟨b', off', p', q', hab, hb', hkx', hp', hq', _, _⟩ := (HS.out.below HX.out.2).at (show j < len by omega)
      injection hab with hab
      injection hab with e1 e2
      subst e1 e2
      have HA' : Hid (laneAt l j = (p', q')) := laneAt_some hkx'
      clear hkx'
      have hk0 : (0 : Int) < ((j + 1 : Nat) : Int) := by omega
      have dk0 : decide ((0 : Int) < ((j + 1 : Nat) : Int)) = true := by simp <;> omega
      have hj1 : ((j + 1 : Nat) : Int) - 1 = (j : Int) := by omega
      have hj2 : (j : Int) < (len : Int) := by omega
      by_cases g5 : p ≤ p'
      · have HG : Hid (badAt l (j + 1)) := .inr (.inr ⟨by omega, by rw [HA.out, show j + 1 - 1 = j from rfl, HA'.out]; exact g5⟩)
        have d5 : decide (p ≤ p') = true := by simpa using g5
        go_wp2_with fail
        go_quiet (first | (go_at_call 39; exact Calls.quiet_of_same (HIn.out _)))
        go_wp2_with fail
        go_ret
        exact ⟨ret_bool (HBad.out HG.out).symm, below_drewN (HX.out.2.alloc HX.out.2.size _) _⟩
      · have HG : Hid (¬ badAt l (j + 1)) := by
          show ¬ _
          unfold badAt
          rw [HA.out, show j + 1 - 1 = j from rfl, HA'.out]
          dsimp only
          have := HG2.out
          omega
        have d5 : decide (p ≤ p') = false := by simpa using g5
        have p5 : (p ≤ p') = False := by simpa using g5
        go_wp2_with fail
        go_quiet (first | (go_at_call 39; exact Calls.quiet_of_same (HIn.out _)))
        go_wp2_with fail
        go_roundw
        case rel => exact ⟨j + 1 + 1, by omega, by go_num, ⟨(HX.out.1.alloc _), below_drewN (HX.out.2.alloc HX.out.2.size _) _⟩, HGood.out HG.out⟩
        case measure => simp [intOf]; omega
    · have hkl : len = k := by omega
      have HAll : Hid (∀ j, j < l.length → ¬ badAt l j) := fun j hj => HN.out j (by have := HL.out; omega)
      have HR : Hid (okB c i l = (decide (0 ≤ c ∧ c ≤ 2147483647) && decide (0 ≤ i ∧ i ≤ 2147483647) && decide (len ≤ 100))) := by
        show _ = _
        rw [← HL.out, Bool.eq_iff_iff]
        simp only [okB_iff, decide_eq_true_eq, Bool.and_eq_true]
        exact ⟨fun h => ⟨⟨h.2.1, h.2.2.1⟩, h.2.2.2⟩, fun h => ⟨HAll.out, h.1.1, h.1.2, h.2⟩⟩
      clear HAll HN HL
      subst hkl
      have HBx : Hid (Below w.heap.size w wr) := HX.out.2
      go_wp2_with fail
      refine (l1In_any c 0 2147483647 wr).mono ?_
      rintro e w' ⟨rfl, hw'⟩
      subst hw'
      by_cases h1 : 0 ≤ c ∧ c ≤ 2147483647
      case neg =>
        rw [decide_eq_false h1] at HR ⊢
        go_wp2_with fail
        go_ret
        exact ⟨ret_bool (by rw [HR.out]; rfl), HBx.out⟩
      rw [decide_eq_true h1] at HR ⊢
      go_wp2_with fail
      refine (l1In_any i 0 2147483647 _).mono ?_
      rintro e w'' ⟨rfl, hw'⟩
      subst hw'
      by_cases h2 : 0 ≤ i ∧ i ≤ 2147483647
      case neg =>
        rw [decide_eq_false h2] at HR ⊢
        go_wp2_with fail
        go_ret
        exact ⟨ret_bool (by rw [HR.out]; rfl), HBx.out⟩
      rw [decide_eq_true h2] at HR ⊢
      go_wp2_with fail
      go_ret
      exact ⟨ret_bool (by rw [HR.out]; simp <;> omega), HBx.out⟩

end Go.Proofs.Ytkicfiacnpifkad
