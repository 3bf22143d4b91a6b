/- What the program's OpenLane answers. -/
import Derived.Test.YtkicfiacnpifkapFlowSt
import Derived.Test.YtkicfiacnpifkapFlowClone
import Derived.Test.YtkicfiacnpifkapFlowRoomI
import Derived.Test.YtkicfiacnpifkapFlowPureI
import Derived.Deep.CutBlock
import Derived.Deep.RegionWith
import Derived.Deep.RegionHeld3
import Derived.Deep.RegionLaw
import Derived.Test.YtkicfiacnpifkapFlowWith
import Derived.Test.YtkicfiacnpifkapFlowRow
namespace Go.Proofs.Ytkicfiacnpifkap
open Go.RowKit
set_option linter.unusedVariables false

theorem openR_no {c i : Int} {l : List Lane} {id : Int} (h : okB c i l = false ∨ ¬ atL id l < 0) : openR c i l id = ((c, i, l), false) := by
  unfold openR
  rcases h with h | h
  · exact endsF_no h
  · rw [decide_eq_false h, endsF, Bool.false_and, Bool.false_and]
    rfl

theorem openR_yes {c i : Int} {l : List Lane} {id : Int} (ho : okB c i l = true) (h : atL id l < 0) : openR c i l id = if okB c i (l.take (lessL id l) ++ [(id, i)] ++ l.drop (lessL id l)) then ((c, i, l.take (lessL id l) ++ [(id, i)] ++ l.drop (lessL id l)), true) else ((c, i, l), false) := by
  unfold openR
  rw [decide_eq_true h, endsF, ho, Bool.true_and, Bool.true_and]

set_option maxRecDepth 10000 in
set_option maxHeartbeats 3200000 in
theorem implOpen_any (c i : Int) (a : Option Addr) (len cap : Nat) (l : List Lane) (id : Int) (w : World) (hs : Lanes w a len l) (hl : len ≤ 1048576) (hi : i64b i) (hid : i64b id) :
    Calls Try.prog 19 #[.agg #[.int .i64 c, .int .i64 i, .slice a len cap], .int .i64 id] w fun e w' => AnsF w.heap.size (openR c i l id) e w' ∧ Below w.heap.size w w' := by
  have HI : Hid (i64b i ∧ i64b id) := ⟨hi, hid⟩
  clear hi hid
  have HSl : Hid (l.length = len) := hs.1
  have HS : Hid (Lanes w a len l) := hs
  obtain ⟨W2, hW2⟩ : ∃ W2, (w.alloc (.cells #[.int .i64 c, .int .i64 i, .slice a len cap] 29)).alloc (.cells #[.int .i64 0, .int .i64 0, .slice none 0 0] 29) = W2 := ⟨_, rfl⟩
  have HE : Hid ((w.alloc (.cells #[.int .i64 c, .int .i64 i, .slice a len cap] 29)).alloc (.cells #[.int .i64 0, .int .i64 0, .slice none 0 0] 29) = W2) := hW2
  have HB2 : Hid (Below w.heap.size w W2) := by show Below _ _ _; rw [← hW2]; exact ((Below.refl _ _).alloc (Nat.le_refl _) _).alloc (by simp) _
  have HQ1 : Hid (Box3 W2 w.heap.size 29 (.int .i64 c) (.int .i64 i) (.slice a len cap)) := by show Box3 _ _ _ _ _ _; rw [← hW2]; exact (Box3.new _ _ _ _ _).alloc _
  have HQ2 : Hid (Box3 W2 (w.heap.size + 1) 29 (.int .i64 0) (.int .i64 0) (.slice none 0 0)) := by show Box3 _ _ _ _ _ _; rw [← hW2]; exact box3_at1 _ _ _ _ _ _
  clear hW2 hs
  go_enter Try.func19, Try.ntmps19
  go_upto_region 1 with fail
  rw [HE.out]
  clear HE
  obtain ⟨c0, c1, c2⟩ := HQ1.out.cells
  go_wp2_with fail
  refine (implFcopy_any c i a len cap l _ (HS.out.below HB2.out) hl).mono ?_
  rintro e x3 ⟨A, C, rfl, ho3, hb3⟩
  have HF : Hid (FSt w (x3.alloc (.cells #[.int .i64 c, .int .i64 i, .slice A len C] 29)) c i a len cap x3.heap.size c i A len C l) := FSt.new HQ1.out HQ2.out HB2.out ho3 hb3
  clear ho3 hb3 HQ1 HQ2 HB2 c0 c1 c2
  go_upto_region 2 with fail
  obtain ⟨W3, hW3⟩ : ∃ W3, x3.alloc (.cells #[.int .i64 c, .int .i64 i, .slice A len C] 29) = W3 := ⟨_, rfl⟩
  rw [hW3] at HF ⊢
  clear hW3
  generalize x3.heap.size = o at *
  obtain ⟨d0, d1, d2⟩ := HF.out.2.2.1.cells
  go_wp2_with fail
  refine (implLanesOf_any _ _ _ d2).mono ?_
  rintro e x4 ⟨rfl, hx4⟩
  subst hx4
  have HF4 := HF
  clear HF d0 d1 d2
  obtain ⟨pp, hpp⟩ : ∃ pp, reachO A (atL id l) = pp := ⟨_, rfl⟩
  have HPP : Hid (reachO A (atL id l) = pp) := hpp
  clear hpp
  obtain ⟨rf, hrf⟩ : ∃ rf, (!okB c i l || pp.isSome) = rf := ⟨_, rfl⟩
  have HRf : Hid ((!okB c i l || pp.isSome) = rf) := hrf
  clear hrf
  go_upto_region 3 with fail
  go_cut [19] from 8 (fun v W => v = .bool rf ∧ Hid (FSt w W c i a len cap o c i A len C l))
  case first =>
    obtain ⟨c0, c1, c2⟩ := HF4.out.1.cells
    go_wp2_with fail
    refine (implFok_any c i a len cap l _ (HF4.out.lanes HS.out) (by omega)).mono ?_
    rintro e x5 ⟨rfl, hb5⟩
    have HF5 := (show Hid (FSt w x5 c i a len cap o c i A len C l) from HF4.out.stays hb5)
    clear hb5 HF4 c0 c1 c2
    generalize okB c i l = ob at *
    cases ob
    · go_wp2_with fail
      go_meet
      exact ⟨congrArg Value.bool (by rw [← HRf.out]; rfl), HF5⟩
    go_wp2_with fail
    refine (implReach_any A len C l id _ HF5.out.2.2.2.1.lanes (by omega)).mono ?_
    rintro e x6 ⟨rfl, hb6⟩
    have HF6 := (show Hid (FSt w x6 c i a len cap o c i A len C l) from HF5.out.stays hb6)
    clear hb6 HF5
    rw [reachP, HPP.out]
    cases pp with
    | none =>
      go_wp2_with fail
      go_meet
      exact ⟨congrArg Value.bool (by rw [← HRf.out]; rfl), HF6⟩
    | some ad =>
      go_wp2_with fail
      go_meet
      exact ⟨congrArg Value.bool (by rw [← HRf.out]; rfl), HF6⟩
  case rest =>
  obtain ⟨rfl, HFc⟩ := hcut
  obtain ⟨x5, hx5⟩ : ∃ x5, wc = x5 := ⟨_, rfl⟩
  rw [hx5] at HFc ⊢
  have HF5 := (show Hid (FSt w x5 c i a len cap o c i A len C l) from HFc.out)
  clear hx5 HF4 HFc
  cases rf
  case true =>
    have HR : Hid (openR c i l id = ((c, i, l), false)) := by
      show _ = _
      have h := HRf.out
      cases hob : okB c i l
      · exact openR_no (.inl hob)
      · rw [hob] at h
        cases hpp : pp with
        | none => rw [hpp] at h; cases h
        | some ad => exact openR_no (.inr (reachO_some (HPP.out.trans hpp)))
    clear HRf HPP
    have hx := HF5.out.2.1
    obtain ⟨g0, g1, g2⟩ := hx.cells
    have f0 := hx.frozen 0
    have f1 := hx.frozen 1
    have f2 := hx.frozen 2
    obtain ⟨d0, d1, d2⟩ := HF5.out.2.2.1.cells
    have HEnd : Hid (OwnL (((x5.setCell ⟨w.heap.size + 1, 0, none⟩ (.int .i64 c)).setCell ⟨w.heap.size + 1, 1, none⟩ (.int .i64 i)).setCell ⟨w.heap.size + 1, 2, none⟩ (.slice A len C)) w.heap.size A len C _ ∧ Below w.heap.size w (((x5.setCell ⟨w.heap.size + 1, 0, none⟩ (.int .i64 c)).setCell ⟨w.heap.size + 1, 1, none⟩ (.int .i64 i)).setCell ⟨w.heap.size + 1, 2, none⟩ (.slice A len C))) := ⟨ownL_set3 HF5.out.2.2.2.1 (HF5.out.2.2.2.1.other (show x5.heap[w.heap.size + 1]? = _ from hx) (by decide)) _ _ _, below_set3 HF5.out.2.2.2.2.1 (by omega) _ _ _⟩
    have hoo : w.heap.size + 1 < o := HF5.out.2.2.2.2.2
    have HLn := (show Hid (_ = len) from HF5.out.2.2.2.1.len)
    clear hx HF5
    go_wp2
    refine bodyPost_ret (v := .tuple #[.agg #[.int .i64 c, .int .i64 i, .slice A len C], .bool false]) (by simp [results, Try.f19, go_sem, g0, g1, g2]) rfl ?_
    exact ⟨by rw [HR.out]; exact ⟨A, C, by rw [HLn.out], by rw [HLn.out]; exact HEnd.out.1⟩, HEnd.out.2⟩
  have hno := HRf.out
  simp only [Bool.or_eq_false_iff, Bool.not_eq_false'] at hno
  obtain ⟨hob, hnn⟩ := hno
  have hat : atL id l < 0 := reachO_none HF5.out.2.2.2.1.lanes (by rw [HPP.out]; cases pp with | none => rfl | some ad => cases hnn)
  obtain ⟨ll, hll⟩ : ∃ ll, (l.take (lessL id l) ++ [(id, i)] ++ l.drop (lessL id l)) = ll := ⟨_, rfl⟩
  have HR : Hid (openR c i l id = if okB c i ll then ((c, i, ll), true) else ((c, i, l), false)) := by
    show _ = _
    rw [openR_yes hob hat, hll]
  have HLL : Hid ((l.take (lessL id l) ++ [(id, i)] ++ l.drop (lessL id l)) = ll) := hll
  clear hll hob hnn hat HRf HPP
  obtain ⟨c0, c1, c2⟩ := HF5.out.1.cells
  go_wp2_with fail
  refine (implWith_any w.heap.size A len C l id i _ HF5.out.2.2.2.1 HI.out.2 HI.out.1 hl HF5.out.2.2.2.2.1.size).mono ?_
  rintro e x6 ⟨A6, C6, rfl, ho6, hg6⟩
  rw [HLL.out] at ho6
  have HF6 := (show Hid (FSt w (x6.setCell ⟨o, 2, none⟩ (.slice A6 (len + 1) C6)) c i a len cap o c i A6 (len + 1) C6 ll) from HF5.out.row hg6 ho6)
  have hb3 := HF5.out.2.2.1.grown hg6 (HF5.out.2.2.2.1.other (show x5.heap[o]? = _ from HF5.out.2.2.1) (by decide))
  obtain ⟨d0, d1, d2⟩ := hb3.cells
  have f2 := hb3.frozen 2
  clear ho6 hg6 hb3 c0 c1 c2 HF5 HLL
  go_upto_region 6 with fail
  obtain ⟨x7, hx7⟩ : ∃ x7, x6.setCell ⟨o, 2, none⟩ (.slice A6 (len + 1) C6) = x7 := ⟨_, rfl⟩
  rw [hx7] at HF6 ⊢
  clear hx7 d0 d1 d2 f2
  have HF7 := (show Hid (FSt w x7 c i a len cap o c i A6 (len + 1) C6 ll) from HF6.out)
  clear HF6
  obtain ⟨d0, d1, d2⟩ := HF7.out.2.2.1.cells
  go_wp2_with fail
  refine (implFok_any c i A6 (len + 1) C6 ll _ HF7.out.2.2.2.1.lanes (by omega)).mono ?_
  rintro e x8 ⟨rfl, hb8⟩
  have HF8 := (show Hid (FSt w x8 c i a len cap o c i A6 (len + 1) C6 ll) from HF7.out.stays hb8)
  clear hb8 HF7 d0 d1 d2
  generalize okB c i ll = ob at *
  cases ob
  · have HR2 : Hid (openR c i l id = ((c, i, l), false)) := HR.out
    obtain ⟨c0, c1, c2⟩ := HF8.out.1.cells
    go_wp2_with fail
    refine (implFcopy_any c i a len cap l _ (HF8.out.lanes HS.out) hl).mono ?_
    rintro e x9 ⟨A9, C9, rfl, ho9, hb9⟩
    have HF9 := (show Hid (FSt w x9 c i a len cap o c i A6 (len + 1) C6 ll) from HF8.out.stays hb9)
    have hx := HF9.out.2.1
    obtain ⟨g0, g1, g2⟩ := hx.cells
    have f0 := hx.frozen 0
    have f1 := hx.frozen 1
    have f2 := hx.frozen 2
    have hsz := HF8.out.2.1.lt
    have HEnd : Hid (OwnL (((x9.setCell ⟨w.heap.size + 1, 0, none⟩ (.int .i64 c)).setCell ⟨w.heap.size + 1, 1, none⟩ (.int .i64 i)).setCell ⟨w.heap.size + 1, 2, none⟩ (.slice A9 len C9)) w.heap.size A9 len C9 l ∧ Below w.heap.size w (((x9.setCell ⟨w.heap.size + 1, 0, none⟩ (.int .i64 c)).setCell ⟨w.heap.size + 1, 1, none⟩ (.int .i64 i)).setCell ⟨w.heap.size + 1, 2, none⟩ (.slice A9 len C9))) := ⟨ownL_set3 (ho9.low HF8.out.2.2.2.2.1.size) (fun e => by have h3 := (ho9.lt _ e).1; omega) _ _ _, below_set3 HF9.out.2.2.2.2.1 (by omega) _ _ _⟩
    clear hx HF9 HF8 ho9 hb9 c0 c1 c2 hsz
    go_wp2
    refine bodyPost_ret (v := .tuple #[.agg #[.int .i64 c, .int .i64 i, .slice A9 len C9], .bool false]) (by simp [results, Try.f19, go_sem, g0, g1, g2]) rfl ?_
    exact ⟨by rw [HR2.out]; exact ⟨A9, C9, by rw [HSl.out], by rw [HSl.out]; exact HEnd.out.1⟩, HEnd.out.2⟩
  · have HR2 : Hid (openR c i l id = ((c, i, ll), true)) := HR.out
    have hx := HF8.out.2.1
    obtain ⟨g0, g1, g2⟩ := hx.cells
    have f0 := hx.frozen 0
    have f1 := hx.frozen 1
    have f2 := hx.frozen 2
    obtain ⟨d0, d1, d2⟩ := HF8.out.2.2.1.cells
    have HEnd : Hid (OwnL (((x8.setCell ⟨w.heap.size + 1, 0, none⟩ (.int .i64 c)).setCell ⟨w.heap.size + 1, 1, none⟩ (.int .i64 i)).setCell ⟨w.heap.size + 1, 2, none⟩ (.slice A6 (len + 1) C6)) w.heap.size A6 (len + 1) C6 _ ∧ Below w.heap.size w (((x8.setCell ⟨w.heap.size + 1, 0, none⟩ (.int .i64 c)).setCell ⟨w.heap.size + 1, 1, none⟩ (.int .i64 i)).setCell ⟨w.heap.size + 1, 2, none⟩ (.slice A6 (len + 1) C6))) := ⟨ownL_set3 HF8.out.2.2.2.1 (HF8.out.2.2.2.1.other (show x8.heap[w.heap.size + 1]? = _ from hx) (by decide)) _ _ _, below_set3 HF8.out.2.2.2.2.1 (by omega) _ _ _⟩
    have hoo : w.heap.size + 1 < o := HF8.out.2.2.2.2.2
    have HLn := (show Hid (_ = (len + 1)) from HF8.out.2.2.2.1.len)
    clear hx HF8
    go_wp2
    refine bodyPost_ret (v := .tuple #[.agg #[.int .i64 c, .int .i64 i, .slice A6 (len + 1) C6], .bool true]) (by simp [results, Try.f19, go_sem, g0, g1, g2]) rfl ?_
    exact ⟨by rw [HR2.out]; exact ⟨A6, C6, by rw [HLn.out], by rw [HLn.out]; exact HEnd.out.1⟩, HEnd.out.2⟩

end Go.Proofs.Ytkicfiacnpifkap
