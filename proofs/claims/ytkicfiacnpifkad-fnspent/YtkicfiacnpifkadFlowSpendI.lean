/- What the program's Spend answers. -/
import Derived.Test.YtkicfiacnpifkadFlowSt
import Derived.Test.YtkicfiacnpifkadFlowClone
import Derived.Test.YtkicfiacnpifkadFlowAts
import Derived.Test.YtkicfiacnpifkadFlowPureI
import Derived.Deep.CutBlock
import Derived.Deep.RegionWith
import Derived.Deep.RegionHeld3
import Derived.Deep.RegionLaw
namespace Go.Proofs.Ytkicfiacnpifkad
open Go.RowKit
set_option linter.unusedVariables false

set_option maxRecDepth 10000 in
set_option maxHeartbeats 3200000 in
theorem implSpend_any (c i : Int) (a : Option Addr) (len cap : Nat) (l : List Lane) (id n : Int) (w : World) (hs : Lanes w a len l) (hl : len ≤ 1048576) :
    Calls Try.prog 13 #[.agg #[.int .i64 c, .int .i64 i, .slice a len cap], .int .i64 id, .int .i64 n] w fun e w' => AnsF w.heap.size (spendR c i l id n) e w' ∧ Below w.heap.size w w' := by
  have HSl : Hid (l.length = len) := hs.1
  have HS : Hid (Lanes w a len l) := hs
  obtain ⟨W2, hW2⟩ : ∃ W2, (w.alloc (.cells #[.int .i64 c, .int .i64 i, .slice a len cap] 36)).alloc (.cells #[.int .i64 0, .int .i64 0, .slice none 0 0] 36) = W2 := ⟨_, rfl⟩
  have HE : Hid ((w.alloc (.cells #[.int .i64 c, .int .i64 i, .slice a len cap] 36)).alloc (.cells #[.int .i64 0, .int .i64 0, .slice none 0 0] 36) = W2) := hW2
  have HB2 : Hid (Below w.heap.size w W2) := by show Below _ _ _; rw [← hW2]; exact ((Below.refl _ _).alloc (Nat.le_refl _) _).alloc (by simp) _
  have HQ1 : Hid (Box3 W2 w.heap.size 36 (.int .i64 c) (.int .i64 i) (.slice a len cap)) := by show Box3 _ _ _ _ _ _; rw [← hW2]; exact (Box3.new _ _ _ _ _).alloc _
  have HQ2 : Hid (Box3 W2 (w.heap.size + 1) 36 (.int .i64 0) (.int .i64 0) (.slice none 0 0)) := by show Box3 _ _ _ _ _ _; rw [← hW2]; exact box3_at1 _ _ _ _ _ _
  clear hW2 hs
  go_enter Try.func13, Try.ntmps13
  go_upto_region 1 with fail
  rw [HE.out]
  clear HE
  obtain ⟨c0, c1, c2⟩ := HQ1.out.cells
  go_wp2_with fail
  refine (implFcopy_any c i a len cap l _ (HS.out.below HB2.out) hl).mono ?_
  rintro e x3 ⟨A, C, rfl, ho3, hb3⟩
  have HF : Hid (FSt w (x3.alloc (.cells #[.int .i64 c, .int .i64 i, .slice A len C] 36)) c i a len cap x3.heap.size c i A len C l) := FSt.new HQ1.out HQ2.out HB2.out ho3 hb3
  clear ho3 hb3 HQ1 HQ2 HB2 c0 c1 c2
  go_upto_region 2 with fail
  obtain ⟨W3, hW3⟩ : ∃ W3, x3.alloc (.cells #[.int .i64 c, .int .i64 i, .slice A len C] 36) = W3 := ⟨_, rfl⟩
  rw [hW3] at HF ⊢
  clear hW3
  generalize x3.heap.size = o at *
  obtain ⟨d0, d1, d2⟩ := HF.out.2.2.1.cells
  go_wp2_with fail
  refine (implLanesOf_any _ _ _ d2).mono ?_
  rintro e x4 ⟨rfl, hx4⟩
  subst hx4
  go_wp2_with fail
  refine (implReach_any A len C l id _ HF.out.2.2.2.1.lanes (by omega)).mono ?_
  rintro e x4 ⟨rfl, hb4⟩
  have HF4 := (show Hid (FSt w x4 c i a len cap o c i A len C l) from HF.out.stays hb4)
  clear hb4 HF d0 d1 d2
  obtain ⟨pp, hpp⟩ : ∃ pp, reachO A (atL id l) = pp := ⟨_, rfl⟩
  have HPP : Hid (reachO A (atL id l) = pp) := hpp
  rw [reachP, hpp]
  clear hpp
  obtain ⟨rf, hrf⟩ : ∃ rf, (!okB c i l || decide (atL id l < 0) || decide (n < 0) || decide (roomN c l id < n)) = rf := ⟨_, rfl⟩
  have HRf : Hid ((!okB c i l || decide (atL id l < 0) || decide (n < 0) || decide (roomN c l id < n)) = rf) := hrf
  clear hrf
  go_upto_region 3 with fail
  go_cut [32] from 10 (fun v W => v = .bool rf ∧ Hid (FSt w W c i a len cap o c i A len C l))
  case first =>
    obtain ⟨c0, c1, c2⟩ := HF4.out.1.cells
    go_wp2_with fail
    refine (implFok_any c i a len cap l _ (HF4.out.lanes HS.out) (by omega)).mono ?_
    rintro e x5 ⟨rfl, hb5⟩
    have HF5 := (show Hid (FSt w x5 c i a len cap o c i A len C l) from HF4.out.stays hb5)
    clear hb5 HF4 c0 c1 c2
    generalize okB c i l = ob at *
    cases ob
    · go_wp2_with fail
      go_meet
      exact ⟨congrArg Value.bool (by rw [← HRf.out]; rfl), HF5⟩
    cases pp with
    | none =>
      rw [decide_eq_true (reachO_none HF5.out.2.2.2.1.lanes HPP.out)] at HRf
      go_wp2_with fail
      go_meet
      exact ⟨congrArg Value.bool (by rw [← HRf.out]; rfl), HF5⟩
    | some ad =>
    rw [decide_eq_false (reachO_some HPP.out)] at HRf
    by_cases h0 : n < 0
    · rw [decide_eq_true h0] at HRf
      go_wp2_with fail
      go_meet
      exact ⟨congrArg Value.bool (by rw [← HRf.out]; rfl), HF5⟩
    rw [decide_eq_false h0] at HRf
    obtain ⟨c0, c1, c2⟩ := HF5.out.1.cells
    go_wp2_with fail
    refine (implRoom_any c i a len cap l id _ (HF5.out.lanes HS.out) (by omega)).mono ?_
    rintro e x6 ⟨rfl, hb6⟩
    have HF6 := (show Hid (FSt w x6 c i a len cap o c i _ len C l) from HF5.out.stays hb6)
    clear hb6 HF5 c0 c1 c2
    generalize roomN c l id = r at *
    go_wp2_with fail
    go_meet
    exact ⟨congrArg Value.bool (by rw [← HRf.out]; simp; omega), HF6⟩
  case rest =>
  obtain ⟨rfl, HFc⟩ := hcut
  obtain ⟨x5, hx5⟩ : ∃ x5, wc = x5 := ⟨_, rfl⟩
  rw [hx5] at HFc ⊢
  have HF5 := (show Hid (FSt w x5 c i a len cap o c i A len C l) from HFc.out)
  clear hx5 HF4 HFc
  cases rf
  case true =>
    have HR : Hid (spendR c i l id n = ((c, i, l), false)) := spendR_no (by have := HRf.out; simp only [Bool.or_eq_true, Bool.not_eq_true', decide_eq_true_eq] at this; simpa only [or_assoc] using this)
    clear HRf
    have hx := HF5.out.2.1
    obtain ⟨g0, g1, g2⟩ := hx.cells
    have f0 := hx.frozen 0
    have f1 := hx.frozen 1
    have f2 := hx.frozen 2
    obtain ⟨d0, d1, d2⟩ := HF5.out.2.2.1.cells
    have HEnd : Hid (OwnL (((x5.setCell ⟨w.heap.size + 1, 0, none⟩ (.int .i64 c)).setCell ⟨w.heap.size + 1, 1, none⟩ (.int .i64 i)).setCell ⟨w.heap.size + 1, 2, none⟩ (.slice A len C)) w.heap.size A len C _ ∧ Below w.heap.size w (((x5.setCell ⟨w.heap.size + 1, 0, none⟩ (.int .i64 c)).setCell ⟨w.heap.size + 1, 1, none⟩ (.int .i64 i)).setCell ⟨w.heap.size + 1, 2, none⟩ (.slice A len C))) := ⟨ownL_set3 HF5.out.2.2.2.1 (HF5.out.2.2.2.1.other (show x5.heap[w.heap.size + 1]? = _ from hx) (by decide)) _ _ _, below_set3 HF5.out.2.2.2.2.1 (by omega) _ _ _⟩
    have hoo : w.heap.size + 1 < o := HF5.out.2.2.2.2.2
    have HLn := (show Hid (_ = len) from HF5.out.2.2.2.1.len)
    clear hx HF5
    go_wp2
    refine bodyPost_ret (v := .tuple #[.agg #[.int .i64 c, .int .i64 i, .slice A len C], .bool false]) (by simp [results, Try.f13, go_sem, g0, g1, g2]) rfl ?_
    exact ⟨by rw [HR.out]; exact ⟨A, C, by rw [HLn.out], by rw [HLn.out]; exact HEnd.out.1⟩, HEnd.out.2⟩
  have hno := HRf.out
  simp only [Bool.or_eq_false_iff, Bool.not_eq_false', decide_eq_false_iff_not] at hno
  obtain ⟨⟨⟨hob, hk⟩, h0⟩, h1⟩ := hno
  obtain ⟨K, b, off, p, q, hK, hKl, rfl, hb, hr, hla, hkx, hp, hq, hpb, hqb⟩ := reach_some HF5.out.2.2.2.1.lanes hk
  obtain ⟨g, hg⟩ := HF5.out.2.2.2.1.addr (show 0 < len by omega)
  injection hg with hg
  injection hg with e1 e2
  subst e1 e2
  obtain rfl : pp = some ⟨b, 0 + K * 2, none⟩ := by have h := HPP.out; rw [reachP, h] at hr; simpa using hr
  have HR : Hid (spendR c i l id n = ((c - n, i, l.set K (p, q - n)), true)) := by
    show _ = _
    rw [spendR_yes hob hK (by omega) (by omega), leftTo, hla]
  have hroom := roomN_le (c := c) (l := l) (id := id)
  rw [hK, Int.toNat_natCast, hla] at hroom
  dsimp only at hroom
  have hokc := (okB_iff.1 hob).2.1
  have hcn : IntKind.i64.wrap (c - n) = c - n := wrap_in' (by omega)
  have hqn1 : i64b (q - n) := by unfold i64b at *; omega
  have hqn : IntKind.i64.wrap (q - n) = q - n := wrap_in' hqn1
  have HKx : Hid (l[K]? = some (p, q)) := hkx
  have HQn : Hid (i64b (q - n)) := hqn1
  clear hob hk h0 h1 hroom hla hK HRf hkx hpb hqb hp hq hokc hqn1 hr
  have HF6 := (show Hid (FSt w (x5.setCell ⟨o, 0, none⟩ (.int .i64 (c - n))) c i a len cap o (c - n) i (some ⟨b, 0, none⟩) len C l) from HF5.out.set0 (c - n))
  obtain ⟨d0, d1, d2⟩ := HF5.out.2.2.1.cells
  have f0 := HF5.out.2.2.1.frozen 0
  go_upto_region 6 with fail
  obtain ⟨x6, hx6⟩ : ∃ x6, x5.setCell ⟨o, 0, none⟩ (.int .i64 (c - n)) = x6 := ⟨_, rfl⟩
  rw [hx6] at HF6 ⊢
  clear hx6 d0 d1 d2 f0 HF5 hcn
  generalize c - n = oc at *
  obtain ⟨b', off, p', q', hb', hbl, hkx, hp, hq, _, _⟩ := HF6.out.2.2.2.1.lanes.at hKl
  injection hb' with hb'
  injection hb' with e1 e2
  subst e1 e2
  obtain ⟨rfl, rfl⟩ : p = p' ∧ q = q' := by rw [HKx.out] at hkx; simpa using hkx
  clear hkx
  rw [Nat.zero_add] at hp hq ⊢
  have fg : x6.frozen? ⟨b, K * 2 + 1, none⟩ = false := HF6.out.2.2.2.1.1.frozenAt _
  have HF7 := (show Hid (FSt w (x6.setCell ⟨b, K * 2 + 1, none⟩ (.int .i64 (q - n))) c i a len cap o oc i (some ⟨b, 0, none⟩) len C (l.set K (p, q - n))) from HF6.out.left HKx.out (q - n) HQn.out)
  go_upto_region 7 with fail
  obtain ⟨x7, hx7⟩ : ∃ x7, x6.setCell ⟨b, K * 2 + 1, none⟩ (.int .i64 (q - n)) = x7 := ⟨_, rfl⟩
  rw [hx7] at HF7 ⊢
  clear hx7 hp hq fg HF6 hqn
  have hx := HF7.out.2.1
  obtain ⟨g0, g1, g2⟩ := hx.cells
  have f0 := hx.frozen 0
  have f1 := hx.frozen 1
  have f2 := hx.frozen 2
  obtain ⟨d0, d1, d2⟩ := HF7.out.2.2.1.cells
  have HEnd : Hid (OwnL (((x7.setCell ⟨w.heap.size + 1, 0, none⟩ (.int .i64 oc)).setCell ⟨w.heap.size + 1, 1, none⟩ (.int .i64 i)).setCell ⟨w.heap.size + 1, 2, none⟩ (.slice (some ⟨b, 0, none⟩) len C)) w.heap.size (some ⟨b, 0, none⟩) len C _ ∧ Below w.heap.size w (((x7.setCell ⟨w.heap.size + 1, 0, none⟩ (.int .i64 oc)).setCell ⟨w.heap.size + 1, 1, none⟩ (.int .i64 i)).setCell ⟨w.heap.size + 1, 2, none⟩ (.slice (some ⟨b, 0, none⟩) len C))) := ⟨ownL_set3 HF7.out.2.2.2.1 (HF7.out.2.2.2.1.other (show x7.heap[w.heap.size + 1]? = _ from hx) (by decide)) _ _ _, below_set3 HF7.out.2.2.2.2.1 (by omega) _ _ _⟩
  have hoo : w.heap.size + 1 < o := HF7.out.2.2.2.2.2
  have HLn := (show Hid (_ = len) from HF7.out.2.2.2.1.len)
  clear hx HF7
  go_wp2
  refine bodyPost_ret (v := .tuple #[.agg #[.int .i64 oc, .int .i64 i, .slice (some ⟨b, 0, none⟩) len C], .bool true]) (by simp [results, Try.f13, go_sem, g0, g1, g2]) rfl ?_
  exact ⟨by rw [HR.out]; exact ⟨(some ⟨b, 0, none⟩), C, by rw [HLn.out], by rw [HLn.out]; exact HEnd.out.1⟩, HEnd.out.2⟩

end Go.Proofs.Ytkicfiacnpifkad
