/- What the program's CloseLane answers. -/
import Derived.Test.YtkicfiacnpifkapFlowSt
import Derived.Test.YtkicfiacnpifkapFlowClone
import Derived.Test.YtkicfiacnpifkapFlowRoomI
import Derived.Test.YtkicfiacnpifkapFlowPureI
import Derived.Deep.CutBlock
import Derived.Deep.RegionWith
import Derived.Deep.RegionHeld3
import Derived.Deep.RegionLaw
import Derived.Test.YtkicfiacnpifkapLaneDel
import Derived.Test.YtkicfiacnpifkapFlowRow
namespace Go.Proofs.Ytkicfiacnpifkap
open Go.RowKit
set_option linter.unusedVariables false

/-- A greater place has a greater number. -/
theorem okF_lt {c i : Int} {l : List Lane} (h : okF c i l) : ∀ d j, j + d + 1 < l.length → (laneAt l j).1 < (laneAt l (j + d + 1)).1
  | 0, j, hj => by
    have := h.1 (j + 1) (by omega)
    unfold badAt at this
    rw [Nat.add_sub_cancel] at this
    show _ < (laneAt l (j + 1)).1
    omega
  | d + 1, j, hj => by
    have h1 := okF_lt h d j (by omega)
    have h2 := h.1 (j + d + 2) (by omega)
    unfold badAt at h2
    rw [show j + d + 2 - 1 = j + d + 1 from rfl] at h2
    show _ < (laneAt l (j + d + 2)).1
    omega

theorem laneAt_cut {l : List Lane} {K j : Nat} (hK : K < l.length) : laneAt (l.take K ++ l.drop (K + 1)) j = if j < K then laneAt l j else laneAt l (j + 1) := by
  unfold laneAt
  simp only [List.getD_eq_getElem?_getD]
  by_cases hj : j < K
  · rw [if_pos hj, List.getElem?_append_left (by simp; omega), List.getElem?_take, if_pos hj]
  · rw [if_neg hj, List.getElem?_append_right (by simp; omega), List.getElem?_drop]
    congr 2
    simp
    omega

theorem okF_cut {c i : Int} {l : List Lane} {K : Nat} (h : okF c i l) (hK : K < l.length) : okF c i (l.take K ++ l.drop (K + 1)) := by
  have hlen : (l.take K ++ l.drop (K + 1)).length = l.length - 1 := by simp; omega
  refine ⟨fun j hj => ?_, h.2.1, h.2.2.1, by have := h.2.2.2; omega⟩
  rw [hlen] at hj
  unfold badAt
  rw [laneAt_cut hK, laneAt_cut hK]
  by_cases h1 : j < K
  · have hb := h.1 j (by omega)
    unfold badAt at hb
    rw [if_pos h1, if_pos (by omega)]
    exact hb
  · have hb := h.1 (j + 1) (by omega)
    unfold badAt at hb
    rw [Nat.add_sub_cancel] at hb
    rw [if_neg h1]
    by_cases h2 : j - 1 < K
    · rw [if_pos h2]
      by_cases h0 : 0 < j
      · have := okF_lt h 1 (j - 1) (by omega)
        rw [show j - 1 + 1 + 1 = j + 1 by omega] at this
        omega
      · omega
    · rw [if_neg h2]
      by_cases h0 : 0 < j
      · rw [show j - 1 + 1 = j by omega]
        omega
      · omega

theorem keptL_one {c i : Int} {l : List Lane} {id : Int} {K : Nat} (h : okF c i l) (hK : atL id l = K) : keptL id l = l.take K ++ l.drop (K + 1) := by
  obtain ⟨g1, g2, g3⟩ := atL_iff hK
  have hk2 : l[K]? = some (laneAt l K) := by
    rw [laneAt, List.getD_eq_getElem?_getD, List.getElem?_eq_getElem g1]
    rfl
  have e1 : keptL id (l.take (K + 1)) = l.take K := by
    rw [keptL_next (p := (laneAt l K).1) (q := (laneAt l K).2) hk2, keptL_take_all g3 (by omega), g2]
    simp
  have e2 : keptL id (l.drop (K + 1)) = l.drop (K + 1) := by
    unfold keptL
    rw [List.filter_eq_self]
    intro s hs
    obtain ⟨j, hj, rfl⟩ := List.mem_iff_getElem.1 hs
    have hj2 : K + 1 + j < l.length := by simp at hj; omega
    have := okF_lt h j K (by omega)
    rw [g2, show K + j + 1 = K + 1 + j by omega, laneAt, List.getD_eq_getElem?_getD, List.getElem?_eq_getElem hj2] at this
    rw [List.getElem_drop]
    simp only [Bool.not_eq_true', beq_eq_false_iff_ne, ne_eq]
    intro e
    rw [Option.getD_some, e] at this
    omega
  have e3 : keptL id (l.take (K + 1) ++ l.drop (K + 1)) = keptL id (l.take (K + 1)) ++ keptL id (l.drop (K + 1)) := by unfold keptL; rw [List.filter_append]
  rw [List.take_append_drop, e1, e2] at e3
  exact e3

theorem closeR_no {c i : Int} {l : List Lane} {id : Int} (h : okB c i l = false ∨ atL id l < 0) : closeR c i l id = ((c, i, l), false) := by
  unfold closeR
  split
  · rfl
  · rename_i hh
    rcases h with h | h
    · exact endsF_no h
    · exact absurd h hh

theorem closeR_yes {c i : Int} {l : List Lane} {id : Int} {K : Nat} (ho : okB c i l = true) (hK : atL id l = K) : closeR c i l id = ((c, i, keptL id l), true) := by
  have h := okB_iff.1 ho
  rw [keptL_one h hK, closeR, if_neg (by omega), hK, Int.toNat_natCast]
  exact endsF_yes h (okF_cut h (atL_iff hK).1)

set_option maxRecDepth 10000 in
set_option maxHeartbeats 3200000 in
theorem implClose_any (c i : Int) (a : Option Addr) (len cap : Nat) (l : List Lane) (id : Int) (w : World) (hs : Lanes w a len l) (hl : len ≤ 1048576) :
    Calls Try.prog 21 #[.agg #[.int .i64 c, .int .i64 i, .slice a len cap], .int .i64 id] w fun e w' => AnsF w.heap.size (closeR c i l id) e w' ∧ Below w.heap.size w w' := by
  have HSl : Hid (l.length = len) := hs.1
  have HS : Hid (Lanes w a len l) := hs
  obtain ⟨W2, hW2⟩ : ∃ W2, (w.alloc (.cells #[.int .i64 c, .int .i64 i, .slice a len cap] 29)).alloc (.cells #[.int .i64 0, .int .i64 0, .slice none 0 0] 29) = W2 := ⟨_, rfl⟩
  have HE : Hid ((w.alloc (.cells #[.int .i64 c, .int .i64 i, .slice a len cap] 29)).alloc (.cells #[.int .i64 0, .int .i64 0, .slice none 0 0] 29) = W2) := hW2
  have HB2 : Hid (Below w.heap.size w W2) := by show Below _ _ _; rw [← hW2]; exact ((Below.refl _ _).alloc (Nat.le_refl _) _).alloc (by simp) _
  have HQ1 : Hid (Box3 W2 w.heap.size 29 (.int .i64 c) (.int .i64 i) (.slice a len cap)) := by show Box3 _ _ _ _ _ _; rw [← hW2]; exact (Box3.new _ _ _ _ _).alloc _
  have HQ2 : Hid (Box3 W2 (w.heap.size + 1) 29 (.int .i64 0) (.int .i64 0) (.slice none 0 0)) := by show Box3 _ _ _ _ _ _; rw [← hW2]; exact box3_at1 _ _ _ _ _ _
  clear hW2 hs
  go_enter Try.func21, Try.ntmps21
  go_upto_region 1 with fail
  rw [HE.out]
  clear HE
  obtain ⟨c0, c1, c2⟩ := HQ1.out.cells
  go_wp2_with fail
  refine (implFcopy_any c i a len cap l _ (HS.out.below HB2.out) hl).mono ?_
  rintro e x3 ⟨A, C, rfl, ho3, hb3⟩
  have HF : Hid (FSt w (x3.alloc (.cells #[.int .i64 c, .int .i64 i, .slice A len C] 29)) c i a len cap x3.heap.size c i A len C l) := FSt.new HQ1.out HQ2.out HB2.out ho3 hb3
  clear ho3 hb3 HQ1 HQ2 HB2 c0 c1 c2
  go_upto_region 2 with fail
  obtain ⟨W3, hW3⟩ : ∃ W3, x3.alloc (.cells #[.int .i64 c, .int .i64 i, .slice A len C] 29) = W3 := ⟨_, rfl⟩
  rw [hW3] at HF ⊢
  clear hW3
  generalize x3.heap.size = o at *
  obtain ⟨d0, d1, d2⟩ := HF.out.2.2.1.cells
  go_wp2_with fail
  refine (implLanesOf_any _ _ _ d2).mono ?_
  rintro e x4 ⟨rfl, hx4⟩
  subst hx4
  have HF4 := HF
  clear HF d0 d1 d2
  obtain ⟨pp, hpp⟩ : ∃ pp, reachO A (atL id l) = pp := ⟨_, rfl⟩
  have HPP : Hid (reachO A (atL id l) = pp) := hpp
  clear hpp
  obtain ⟨rf, hrf⟩ : ∃ rf, (!okB c i l || pp.isNone) = rf := ⟨_, rfl⟩
  have HRf : Hid ((!okB c i l || pp.isNone) = rf) := hrf
  clear hrf
  go_upto_region 3 with fail
  go_cut [19] from 8 (fun v W => v = .bool rf ∧ Hid (FSt w W c i a len cap o c i A len C l))
  case first =>
    obtain ⟨c0, c1, c2⟩ := HF4.out.1.cells
    go_wp2_with fail
    refine (implFok_any c i a len cap l _ (HF4.out.lanes HS.out) (by omega)).mono ?_
    rintro e x5 ⟨rfl, hb5⟩
    have HF5 := (show Hid (FSt w x5 c i a len cap o c i A len C l) from HF4.out.stays hb5)
    clear hb5 HF4 c0 c1 c2
    generalize okB c i l = ob at *
    cases ob
    · go_wp2_with fail
      go_meet
      exact ⟨congrArg Value.bool (by rw [← HRf.out]; rfl), HF5⟩
    go_wp2_with fail
    refine (implReach_any A len C l id _ HF5.out.2.2.2.1.lanes (by omega)).mono ?_
    rintro e x6 ⟨rfl, hb6⟩
    have HF6 := (show Hid (FSt w x6 c i a len cap o c i A len C l) from HF5.out.stays hb6)
    clear hb6 HF5
    rw [reachP, HPP.out]
    cases pp with
    | none =>
      go_wp2_with fail
      go_meet
      exact ⟨congrArg Value.bool (by rw [← HRf.out]; rfl), HF6⟩
    | some ad =>
      go_wp2_with fail
      go_meet
      exact ⟨congrArg Value.bool (by rw [← HRf.out]; rfl), HF6⟩
  case rest =>
  obtain ⟨rfl, HFc⟩ := hcut
  obtain ⟨x5, hx5⟩ : ∃ x5, wc = x5 := ⟨_, rfl⟩
  rw [hx5] at HFc ⊢
  have HF5 := (show Hid (FSt w x5 c i a len cap o c i A len C l) from HFc.out)
  clear hx5 HF4 HFc
  cases rf
  case true =>
    have HR : Hid (closeR c i l id = ((c, i, l), false)) := by
      show _ = _
      have h := HRf.out
      cases hob : okB c i l
      · exact closeR_no (.inl hob)
      · rw [hob] at h
        cases hpp : pp with
        | none => exact closeR_no (.inr (reachO_none HF5.out.2.2.2.1.lanes (HPP.out.trans hpp)))
        | some ad => rw [hpp] at h; cases h
    clear HRf HPP
    have hx := HF5.out.2.1
    obtain ⟨g0, g1, g2⟩ := hx.cells
    have f0 := hx.frozen 0
    have f1 := hx.frozen 1
    have f2 := hx.frozen 2
    obtain ⟨d0, d1, d2⟩ := HF5.out.2.2.1.cells
    have HEnd : Hid (OwnL (((x5.setCell ⟨w.heap.size + 1, 0, none⟩ (.int .i64 c)).setCell ⟨w.heap.size + 1, 1, none⟩ (.int .i64 i)).setCell ⟨w.heap.size + 1, 2, none⟩ (.slice A len C)) w.heap.size A len C _ ∧ Below w.heap.size w (((x5.setCell ⟨w.heap.size + 1, 0, none⟩ (.int .i64 c)).setCell ⟨w.heap.size + 1, 1, none⟩ (.int .i64 i)).setCell ⟨w.heap.size + 1, 2, none⟩ (.slice A len C))) := ⟨ownL_set3 HF5.out.2.2.2.1 (HF5.out.2.2.2.1.other (show x5.heap[w.heap.size + 1]? = _ from hx) (by decide)) _ _ _, below_set3 HF5.out.2.2.2.2.1 (by omega) _ _ _⟩
    have hoo : w.heap.size + 1 < o := HF5.out.2.2.2.2.2
    have HLn := (show Hid (_ = len) from HF5.out.2.2.2.1.len)
    clear hx HF5
    go_wp2
    refine bodyPost_ret (v := .tuple #[.agg #[.int .i64 c, .int .i64 i, .slice A len C], .bool false]) (by simp [results, Try.f21, go_sem, g0, g1, g2]) rfl ?_
    exact ⟨by rw [HR.out]; exact ⟨A, C, by rw [HLn.out], by rw [HLn.out]; exact HEnd.out.1⟩, HEnd.out.2⟩
  have hno := HRf.out
  simp only [Bool.or_eq_false_iff, Bool.not_eq_false'] at hno
  obtain ⟨hob, hnn⟩ := hno
  have hat : ¬ atL id l < 0 := by
    cases hpp : pp with
    | none => rw [hpp] at hnn; cases hnn
    | some ad => exact reachO_some (HPP.out.trans hpp)
  obtain ⟨K, hK⟩ := Int.eq_ofNat_of_zero_le (show 0 ≤ atL id l by omega)
  obtain ⟨g1, g2, g3⟩ := atL_iff hK
  have HR : Hid (closeR c i l id = ((c, i, keptL id l), true)) := closeR_yes hob hK
  have hKl : K < len := by have := HSl.out; omega
  obtain ⟨g, rfl⟩ := HF5.out.2.2.2.1.addr (show 0 < len by omega)
  have HW : Hid (Calls Try.prog 43 #[.slice (some ⟨g, 0, none⟩) len C, .int .i64 id] x5 fun e w' => e = .returned (.slice (some ⟨g, 0, none⟩) (keptL id l).length C) ∧ OwnL w' w.heap.size (some ⟨g, 0, none⟩) (keptL id l).length C (keptL id l) ∧ x5.grownBy w' (some g)) :=
    implWithout_any w.heap.size g len C l id K x5 HF5.out.2.2.2.1 hl hK hKl g3 g2
  clear hob hnn hat hK g1 g2 g3 HRf HPP hKl
  obtain ⟨kl, hkl⟩ : ∃ kl, keptL id l = kl := ⟨_, rfl⟩
  rw [hkl] at HR HW
  clear hkl
  obtain ⟨m, hm⟩ : ∃ m, kl.length = m := ⟨_, rfl⟩
  rw [hm] at HW
  have HM : Hid (kl.length = m) := hm
  clear hm
  go_wp2_with fail
  refine HW.out.mono ?_
  rintro e x6 ⟨rfl, ho6, hg6⟩
  have HF6 := (show Hid (FSt w (x6.setCell ⟨o, 2, none⟩ (.slice (some ⟨g, 0, none⟩) m C)) c i a len cap o c i (some ⟨g, 0, none⟩) m C kl) from HF5.out.row hg6 ho6)
  have hb3 := HF5.out.2.2.1.grown hg6 (HF5.out.2.2.2.1.other (show x5.heap[o]? = _ from HF5.out.2.2.1) (by decide))
  obtain ⟨d0, d1, d2⟩ := hb3.cells
  have f2 := hb3.frozen 2
  clear ho6 hg6 hb3 HF5 HW
  go_upto_region 6 with fail
  obtain ⟨x7, hx7⟩ : ∃ x7, x6.setCell ⟨o, 2, none⟩ (.slice (some ⟨g, 0, none⟩) m C) = x7 := ⟨_, rfl⟩
  rw [hx7] at HF6 ⊢
  clear hx7 d0 d1 d2 f2
  have HF7 := (show Hid (FSt w x7 c i a len cap o c i (some ⟨g, 0, none⟩) m C kl) from HF6.out)
  clear HF6
  have hx := HF7.out.2.1
  obtain ⟨g0, g1, g2⟩ := hx.cells
  have f0 := hx.frozen 0
  have f1 := hx.frozen 1
  have f2 := hx.frozen 2
  obtain ⟨d0, d1, d2⟩ := HF7.out.2.2.1.cells
  have HEnd : Hid (OwnL (((x7.setCell ⟨w.heap.size + 1, 0, none⟩ (.int .i64 c)).setCell ⟨w.heap.size + 1, 1, none⟩ (.int .i64 i)).setCell ⟨w.heap.size + 1, 2, none⟩ (.slice (some ⟨g, 0, none⟩) m C)) w.heap.size (some ⟨g, 0, none⟩) m C _ ∧ Below w.heap.size w (((x7.setCell ⟨w.heap.size + 1, 0, none⟩ (.int .i64 c)).setCell ⟨w.heap.size + 1, 1, none⟩ (.int .i64 i)).setCell ⟨w.heap.size + 1, 2, none⟩ (.slice (some ⟨g, 0, none⟩) m C))) := ⟨ownL_set3 HF7.out.2.2.2.1 (HF7.out.2.2.2.1.other (show x7.heap[w.heap.size + 1]? = _ from hx) (by decide)) _ _ _, below_set3 HF7.out.2.2.2.2.1 (by omega) _ _ _⟩
  have hoo : w.heap.size + 1 < o := HF7.out.2.2.2.2.2
  have HLn := (show Hid (_ = m) from HF7.out.2.2.2.1.len)
  clear hx HF7
  go_wp2
  refine bodyPost_ret (v := .tuple #[.agg #[.int .i64 c, .int .i64 i, .slice (some ⟨g, 0, none⟩) m C], .bool true]) (by simp [results, Try.f21, go_sem, g0, g1, g2]) rfl ?_
  exact ⟨by rw [HR.out]; exact ⟨(some ⟨g, 0, none⟩), C, by rw [HLn.out], by rw [HLn.out]; exact HEnd.out.1⟩, HEnd.out.2⟩

end Go.Proofs.Ytkicfiacnpifkap
