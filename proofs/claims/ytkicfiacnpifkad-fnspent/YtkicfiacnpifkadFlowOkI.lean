/- What the program's FlowOk answers. -/
import Derived.Test.YtkicfiacnpifkadFlowWrongs
import Derived.Test.YtkicfiacnpifkadFlowIdx
import Derived.Test.YtkicfiacnpifkadBox3
import Derived.Shelf.Abstract
namespace Go.Proofs.Ytkicfiacnpifkad
open Go.RowKit
set_option linter.unusedVariables false

theorem implLanesOf_any (b : Nat) (v : Value) (w : World) (h : w.cell? ⟨b, 2, none⟩ = some v) : Calls Try.prog 35 #[.pointer (some ⟨b, 0, none⟩)] w fun e w' => e = .returned v ∧ w' = w := by
  go_enter Try.func35, Try.ntmps35
  go_wp2_with fail
  go_ret
  exact ⟨rfl, rfl⟩

/-- Whether a lane is wrong by itself. -/
def wrongB (l : List Lane) : Bool := decide (0 ≤ idxL wrongL l)

theorem implCont_any (a : Option Addr) (len cap : Nat) (l : List Lane) (w : World) (hs : Lanes w a len l) (hl : len ≤ 1099511627776) :
    Calls Try.prog 43 #[.slice a len cap, .func (.func 44) #[] #[]] w fun e w' => e = .returned (.bool (wrongB l)) ∧ Below w.heap.size w w' := by
  have HI : Hid (Calls Try.prog 53 #[.slice a len cap, .func (.func 44) #[] #[]] w fun e w' => e = .returned (.int .i64 (idxL wrongL l)) ∧ Below w.heap.size w w') :=
    implIdx_any a len cap l 44 #[] wrongL w (enters_of Try.func44 (by kernel_rfl) rfl) hs hl (fun p q W _ => implWrong_any p q W)
  unfold wrongB
  generalize idxL wrongL l = r at *
  go_enter Try.func43, Try.ntmps43
  go_wp2_with fail
  refine HI.out.mono ?_
  rintro e w1 ⟨rfl, hb1⟩
  have HB1 : Hid (Below w.heap.size w w1) := hb1
  clear hb1
  go_wp2_with fail
  go_ret
  exact ⟨rfl, HB1.out⟩

theorem idxL_pos {pr : Int → Int → Bool} : ∀ {l : List Lane}, 0 ≤ idxL pr l ↔ ∃ k, k < l.length ∧ pr (laneAt l k).1 (laneAt l k).2 = true
  | [] => by simp [idxL]
  | x :: r => by
    have ih := @idxL_pos pr r
    rw [idxL]
    cases h : pr x.1 x.2
    · simp only [Bool.false_eq_true, if_false]
      constructor
      · intro h2
        split at h2
        · omega
        · obtain ⟨k, hk, hp⟩ := ih.1 (by omega)
          exact ⟨k + 1, by simpa using hk, by simpa [laneAt] using hp⟩
      · rintro ⟨k, hk, hp⟩
        cases k with
        | zero => rw [show laneAt (x :: r) 0 = x by simp [laneAt], h] at hp; cases hp
        | succ k =>
          have := ih.2 ⟨k, by simpa using hk, by simpa [laneAt] using hp⟩
          rw [if_neg (by omega)]
          omega
    · simp only [if_true]
      exact ⟨fun _ => ⟨0, by simp, by simpa [laneAt] using h⟩, fun _ => Int.le_refl 0⟩

theorem okB_parts (c i : Int) (l : List Lane) : okB c i l = (decide (0 ≤ c ∧ c ≤ 2147483647) && decide (0 ≤ i ∧ i ≤ 2147483647) && decide (l.length ≤ 100) && ascB l && !wrongB l) := by
  rw [Bool.eq_iff_iff]
  simp only [okB_iff, decide_eq_true_eq, Bool.and_eq_true, ascB_iff, Bool.not_eq_true', wrongB, decide_eq_false_iff_not, idxL_pos]
  constructor
  · rintro ⟨h1, h2, h3, h4⟩
    refine ⟨⟨⟨⟨h2, h3⟩, h4⟩, fun k hk => ?_⟩, ?_⟩
    · have := h1 (k + 1) hk
      unfold badAt at this
      simp only [Nat.add_sub_cancel] at this
      omega
    · rintro ⟨k, hk, hp⟩
      have := h1 k hk
      unfold badAt at this
      simp only [wrongL, Bool.or_eq_true, decide_eq_true_eq] at hp
      omega
  · rintro ⟨⟨⟨⟨h2, h3⟩, h4⟩, h5⟩, h6⟩
    refine ⟨fun k hk => ?_, h2, h3, h4⟩
    rintro (h | h | ⟨h0, h⟩)
    · exact h6 ⟨k, hk, by simp [wrongL, h]⟩
    · refine h6 ⟨k, hk, ?_⟩
      simp only [wrongL, Bool.or_eq_true, decide_eq_true_eq]
      omega
    · have := h5 (k - 1) (by omega)
      rw [Nat.sub_add_cancel h0] at this
      omega

set_option maxRecDepth 10000 in
set_option maxHeartbeats 800000 in
theorem implFok_any (c i : Int) (a : Option Addr) (len cap : Nat) (l : List Lane) (w : World) (hs : Lanes w a len l) (hl : len ≤ 1099511627776) :
    Calls Try.prog 16 #[.agg #[.int .i64 c, .int .i64 i, .slice a len cap]] w fun e w' => e = .returned (.bool (okB c i l)) ∧ Below w.heap.size w w' := by
  have HR : Hid (okB c i l = (decide (0 ≤ c ∧ c ≤ 2147483647) && decide (0 ≤ i ∧ i ≤ 2147483647) && decide (len ≤ 100) && ascB l && !wrongB l)) := by show _ = _; rw [okB_parts, hs.1]
  have HB0 : Hid (Below w.heap.size w (w.alloc (.cells #[.int .i64 c, .int .i64 i, .slice a len cap] 36))) := (Below.refl _ _).alloc (Nat.le_refl _) _
  have HX0 : Hid (Box3 (w.alloc (.cells #[.int .i64 c, .int .i64 i, .slice a len cap] 36)) w.heap.size 36 (.int .i64 c) (.int .i64 i) (.slice a len cap)) := Box3.new _ _ _ _ _
  have HS : Hid (Lanes (w.alloc (.cells #[.int .i64 c, .int .i64 i, .slice a len cap] 36)) a len l) := hs.below HB0.out
  clear hs
  go_enter Try.func16, Try.ntmps16
  go_wp2_with fail
  obtain ⟨w1, hw1⟩ : ∃ w1, w.alloc (.cells #[.int .i64 c, .int .i64 i, .slice a len cap] 36) = w1 := ⟨_, rfl⟩
  rw [hw1] at HB0 HX0 HS ⊢
  clear hw1
  obtain ⟨c0, c1, c2⟩ := HX0.out.cells
  refine (implWin_any c _).mono ?_
  rintro e w2 ⟨rfl, hw2⟩
  subst hw2
  by_cases h1 : 0 ≤ c ∧ c ≤ 2147483647
  case neg =>
    rw [decide_eq_false h1] at HR ⊢
    go_wp2_with fail
    go_ret
    exact ⟨ret_bool (by rw [HR.out]; rfl), HB0.out⟩
  rw [decide_eq_true h1] at HR ⊢
  clear h1
  go_wp2_with fail
  refine (implWin_any i _).mono ?_
  rintro e w3 ⟨rfl, hw3⟩
  subst hw3
  by_cases h2 : 0 ≤ i ∧ i ≤ 2147483647
  case neg =>
    rw [decide_eq_false h2] at HR ⊢
    go_wp2_with fail
    go_ret
    exact ⟨ret_bool (by rw [HR.out]; rfl), HB0.out⟩
  rw [decide_eq_true h2] at HR ⊢
  clear h2
  by_cases h3 : len ≤ 100
  case neg =>
    rw [decide_eq_false h3] at HR
    have n3 : (100 : Int) < (len : Int) := by omega
    go_wp2_with fail
    go_ret
    exact ⟨ret_bool (by rw [HR.out]; rfl), HB0.out⟩
  rw [decide_eq_true h3] at HR
  have n3 : ¬ ((100 : Int) < (len : Int)) := by omega
  go_wp2_with fail
  refine (implLanesOf_any _ _ _ c2).mono ?_
  rintro e w4 ⟨rfl, hw4⟩
  subst hw4
  go_wp2_with fail
  refine (implAsc_any a len cap l _ HS.out hl).mono ?_
  rintro e w5 ⟨rfl, hb5⟩
  have HX5 := (show Hid (Box3 w5 w.heap.size 36 (.int .i64 c) (.int .i64 i) (.slice a len cap)) from HX0.out.stays hb5)
  have HS5 : Hid (Lanes w5 a len l) := HS.out.below hb5
  have HB5 : Hid (Below w.heap.size w w5) := HB0.out.trans (hb5.mono HB0.out.size)
  clear hb5 HX0 HS HB0 c0 c1 c2
  generalize ascB l = asc at *
  obtain ⟨c0, c1, c2⟩ := HX5.out.cells
  cases asc
  · go_wp2_with fail
    go_ret
    exact ⟨ret_bool (by rw [HR.out]; rfl), HB5.out⟩
  · go_wp2_with fail
    refine (implCont_any a len cap l _ HS5.out hl).mono ?_
    rintro e w6 ⟨rfl, hb6⟩
    have HB6 : Hid (Below w.heap.size w w6) := HB5.out.trans (hb6.mono HB5.out.size)
    clear hb6 HB5 HX5 HS5 c0 c1 c2
    generalize wrongB l = wb at *
    cases wb
    all_goals
      go_wp2_with fail
      go_ret
      exact ⟨ret_bool (by rw [HR.out]; rfl), HB6.out⟩

end Go.Proofs.Ytkicfiacnpifkad
