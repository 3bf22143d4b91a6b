/- What the specification's Spend answers. -/
import Derived.Test.YtkicfiacnpifkadFlowSt
import Derived.Test.YtkicfiacnpifkadFlowRoomS
import Derived.Test.YtkicfiacnpifkadFlowSpendN
import Derived.Test.YtkicfiacnpifkadL1In
import Derived.Deep.CutBlock
import Derived.Deep.RegionWith
import Derived.Deep.RegionHeld3
import Derived.Deep.RegionLaw
namespace Go.Proofs.Ytkicfiacnpifkad
open Go.RowKit
set_option linter.unusedVariables false

set_option maxRecDepth 10000 in
set_option maxHeartbeats 3200000 in
theorem specSpend_any (c i : Int) (a : Option Addr) (len cap : Nat) (l : List Lane) (id n : Int) (w : World) (hs : Lanes w a len l) (hl : len ≤ 1048576) (hc : i64b c) :
    Calls Try.prog 14 #[.agg #[.int .i64 c, .int .i64 i, .slice a len cap], .int .i64 id, .int .i64 n] w fun e w' => AnsF w.heap.size (spendR c i l id n) e w' ∧ Below w.heap.size w w' := by
  have HCb : Hid (i64b c) := hc
  clear hc
  have HSl : Hid (l.length = len) := hs.1
  have HS : Hid (Lanes w a len l) := hs
  obtain ⟨W2, hW2⟩ : ∃ W2, (w.alloc (.cells #[.int .i64 c, .int .i64 i, .slice a len cap] 36)).alloc (.cells #[.int .i64 0, .int .i64 0, .slice none 0 0] 36) = W2 := ⟨_, rfl⟩
  have HE : Hid ((w.alloc (.cells #[.int .i64 c, .int .i64 i, .slice a len cap] 36)).alloc (.cells #[.int .i64 0, .int .i64 0, .slice none 0 0] 36) = W2) := hW2
  have HB2 : Hid (Below w.heap.size w W2) := by show Below _ _ _; rw [← hW2]; exact ((Below.refl _ _).alloc (Nat.le_refl _) _).alloc (by simp) _
  have HQ1 : Hid (Box3 W2 w.heap.size 36 (.int .i64 c) (.int .i64 i) (.slice a len cap)) := by show Box3 _ _ _ _ _ _; rw [← hW2]; exact (Box3.new _ _ _ _ _).alloc _
  have HQ2 : Hid (Box3 W2 (w.heap.size + 1) 36 (.int .i64 0) (.int .i64 0) (.slice none 0 0)) := by show Box3 _ _ _ _ _ _; rw [← hW2]; exact box3_at1 _ _ _ _ _ _
  clear hW2 hs
  go_enter Try.func14, Try.ntmps14
  go_upto_region 1 with fail
  rw [HE.out]
  clear HE
  obtain ⟨c0, c1, c2⟩ := HQ1.out.cells
  go_wp2_with fail
  refine (specFcopy_any c i a len cap l _ (HS.out.below HB2.out) hl).mono ?_
  rintro e x3 ⟨A, C, rfl, ho3, hb3⟩
  have HF : Hid (FSt w (x3.alloc (.cells #[.int .i64 c, .int .i64 i, .slice A len C] 36)) c i a len cap x3.heap.size c i A len C l) := FSt.new HQ1.out HQ2.out HB2.out ho3 hb3
  clear ho3 hb3 HQ1 HQ2 HB2 c0 c1 c2
  go_upto_region 2 with fail
  obtain ⟨W3, hW3⟩ : ∃ W3, x3.alloc (.cells #[.int .i64 c, .int .i64 i, .slice A len C] 36) = W3 := ⟨_, rfl⟩
  rw [hW3] at HF ⊢
  clear hW3
  generalize x3.heap.size = o at *
  obtain ⟨c0, c1, c2⟩ := HF.out.1.cells
  go_wp2_with fail
  refine (specAt_any c i a len cap l id _ (HF.out.lanes HS.out) (by omega)).mono ?_
  rintro e x4 ⟨rfl, hb4⟩
  have HF4 := (show Hid (FSt w x4 c i a len cap o c i A len C l) from HF.out.stays hb4)
  clear hb4 HF c0 c1 c2
  have hr := atL_range id l
  obtain ⟨rf, hrf⟩ : ∃ rf, decide (atL id l < 0 ∨ ¬ (0 ≤ n ∧ n ≤ roomN c l id)) = rf := ⟨_, rfl⟩
  have HRf : Hid (decide (atL id l < 0 ∨ ¬ (0 ≤ n ∧ n ≤ roomN c l id)) = rf) := hrf
  clear hrf
  go_upto_region 3 with fail
  go_cut [24] from 10 (fun v W => v = .bool rf ∧ Hid (FSt w W c i a len cap o c i A len C l))
  case first =>
    by_cases hk : atL id l < 0
    · have HT : Hid (true = rf) := by show _ = _; rw [← HRf.out, decide_eq_true (.inl hk)]
      generalize atL id l = k at *
      clear hr HRf
      go_wp2_with fail
      go_meet
      exact ⟨congrArg Value.bool HT.out, HF4⟩
    · have HD : Hid ((!(decide (0 ≤ n ∧ n ≤ roomN c l id))) = rf) := by
        show _ = _
        rw [← HRf.out]
        by_cases h : 0 ≤ n ∧ n ≤ roomN c l id
        · rw [decide_eq_true h, decide_eq_false (by omega)]; rfl
        · rw [decide_eq_false h, decide_eq_true (.inr h)]; rfl
      have hkd : decide (atL id l < 0) = false := by simpa using hk
      have hkf : (atL id l < 0) = False := by simpa using hk
      clear HRf hr
      generalize atL id l = k at *
      obtain ⟨c0, c1, c2⟩ := HF4.out.1.cells
      go_wp2_with fail
      refine (specRoom_any c i a len cap l id _ (HF4.out.lanes HS.out) (by omega)).mono ?_
      rintro e x5 ⟨rfl, hb5⟩
      have HF5 := (show Hid (FSt w x5 c i a len cap o c i A len C l) from HF4.out.stays hb5)
      clear hb5 HF4 c0 c1 c2
      generalize roomN c l id = r at *
      go_wp2_with fail
      refine (l1In_any n 0 r _).mono ?_
      rintro e x6 ⟨rfl, hx6⟩
      subst hx6
      generalize decide (0 ≤ n ∧ n ≤ r) = q at *
      cases q
      all_goals
        go_wp2_with fail
        go_meet
        exact ⟨congrArg Value.bool HD.out, HF5⟩
  case rest =>
  obtain ⟨rfl, HFc⟩ := hcut
  obtain ⟨x5, hx5⟩ : ∃ x5, wc = x5 := ⟨_, rfl⟩
  rw [hx5] at HFc ⊢
  have HF5 := (show Hid (FSt w x5 c i a len cap o c i A len C l) from HFc.out)
  clear hx5 HF4 HFc
  cases rf
  case true =>
    have HR : Hid (spendR c i l id n = ((c, i, l), false)) := if_pos (of_decide_eq_true HRf.out)
    clear HRf hr
    generalize atL id l = k at *
    have hx := HF5.out.2.1
    obtain ⟨g0, g1, g2⟩ := hx.cells
    have f0 := hx.frozen 0
    have f1 := hx.frozen 1
    have f2 := hx.frozen 2
    obtain ⟨d0, d1, d2⟩ := HF5.out.2.2.1.cells
    have HEnd : Hid (OwnL (((x5.setCell ⟨w.heap.size + 1, 0, none⟩ (.int .i64 c)).setCell ⟨w.heap.size + 1, 1, none⟩ (.int .i64 i)).setCell ⟨w.heap.size + 1, 2, none⟩ (.slice A len C)) w.heap.size A len C l ∧ Below w.heap.size w (((x5.setCell ⟨w.heap.size + 1, 0, none⟩ (.int .i64 c)).setCell ⟨w.heap.size + 1, 1, none⟩ (.int .i64 i)).setCell ⟨w.heap.size + 1, 2, none⟩ (.slice A len C))) := ⟨ownL_set3 HF5.out.2.2.2.1 (HF5.out.2.2.2.1.other (show x5.heap[w.heap.size + 1]? = _ from hx) (by decide)) _ _ _, below_set3 HF5.out.2.2.2.2.1 (by omega) _ _ _⟩
    have hoo : w.heap.size + 1 < o := HF5.out.2.2.2.2.2
    clear hx HF5
    go_wp2
    refine bodyPost_ret (v := .tuple #[.agg #[.int .i64 c, .int .i64 i, .slice A len C], .bool false]) (by simp [results, Try.f14, go_sem, g0, g1, g2]) rfl ?_
    have h := HSl.out
    subst h
    exact ⟨by rw [HR.out]; exact ⟨A, C, rfl, HEnd.out.1⟩, HEnd.out.2⟩
  have hno : ¬ (atL id l < 0 ∨ ¬ (0 ≤ n ∧ n ≤ roomN c l id)) := of_decide_eq_false HRf.out
  obtain ⟨K, hK⟩ := Int.eq_ofNat_of_zero_le (show 0 ≤ atL id l by omega)
  have hKl : K < len := by have := HSl.out; omega
  obtain ⟨g, rfl⟩ := HF5.out.2.2.2.1.addr (show 0 < len by omega)
  obtain ⟨b, off, p, q, hb, hbl, hkx, hp, hq, hpb, hqb⟩ := HF5.out.2.2.2.1.lanes.at hKl
  injection hb with hb
  injection hb with e1 e2
  subst e1 e2
  rw [Nat.zero_add] at hp hq
  have hla := laneAt_some hkx
  have HR' : Hid (spendR c i l id n = endsF c i l (c - n) i (l.set K (p, q - n)) true) := by
    show _ = _
    rw [spendR, if_neg hno, hK, Int.toNat_natCast, leftTo, hla]
  have hroom := roomN_le (c := c) (l := l) (id := id)
  rw [hK, Int.toNat_natCast, hla] at hroom
  dsimp only at hroom
  have hcn1 : -9223372036854775808 ≤ c - n := by have := HCb.out; unfold i64b at this; omega
  have hcn2 : c - n ≤ 9223372036854775807 := by have := HCb.out; unfold i64b at this; omega
  have hqn1 : -9223372036854775808 ≤ q - n := by unfold i64b at hqb; omega
  have hqn2 : q - n ≤ 9223372036854775807 := by unfold i64b at hqb; omega
  have HKx : Hid (l[K]? = some (p, q)) := hkx
  rw [hK]
  clear hno hroom hla hK hr HRf hkx hpb hqb hp hq
  have hKi : (K : Int) < (len : Int) := by omega
  have HF6 := (show Hid (FSt w (x5.setCell ⟨o, 0, none⟩ (.int .i64 (c - n))) c i a len cap o (c - n) i (some ⟨g, 0, none⟩) len C l) from HF5.out.set0 (c - n))
  obtain ⟨d0, d1, d2⟩ := HF5.out.2.2.1.cells
  have f0 := HF5.out.2.2.1.frozen 0
  go_upto_region 6 with fail
  obtain ⟨x6, hx6⟩ : ∃ x6, x5.setCell ⟨o, 0, none⟩ (.int .i64 (c - n)) = x6 := ⟨_, rfl⟩
  rw [hx6] at HF6 ⊢
  clear hx6 d0 d1 d2 f0 HF5
  obtain ⟨d0, d1, d2⟩ := HF6.out.2.2.1.cells
  obtain ⟨b, off, p', q', hb, hbl, hkx, hp, hq, _, _⟩ := HF6.out.2.2.2.1.lanes.at hKl
  injection hb with hb
  injection hb with e1 e2
  subst e1 e2
  rw [Nat.zero_add] at hp hq
  obtain ⟨rfl, rfl⟩ : p = p' ∧ q = q' := by rw [HKx.out] at hkx; simpa using hkx
  clear hkx
  have fg : x6.frozen? ⟨g, K * 2 + 1, none⟩ = false := HF6.out.2.2.2.1.1.frozenAt _
  have HF7 := (show Hid (FSt w (x6.setCell ⟨g, K * 2 + 1, none⟩ (.int .i64 (q - n))) c i a len cap o (c - n) i (some ⟨g, 0, none⟩) len C (l.set K (p, q - n))) from HF6.out.left HKx.out (q - n) ⟨hqn1, hqn2⟩)
  have hqw : IntKind.i64.wrap (q - n) = q - n := IntWalk.i64_in _ ⟨hqn1, hqn2⟩
  go_cut [] from 25 (fun W => Hid (FSt w W c i a len cap o (c - n) i (some ⟨g, 0, none⟩) len C (l.set K (p, q - n))))
  case first =>
    go_region_with (fail)
    all_goals
      go_wp2_with fail
      go_meet
      exact HF7.out.drew
  case rest =>
  obtain ⟨x7, hx7⟩ : ∃ x7, wc = x7 := ⟨_, rfl⟩
  rw [hx7] at hcut ⊢
  have HF8 := (show Hid (FSt w x7 c i a len cap o (c - n) i (some ⟨g, 0, none⟩) len C (l.set K (p, q - n))) from hcut.out)
  clear hx7 hcut HF7 HF6 d0 d1 d2 hp hq fg hqw hqn1 hqn2 hcn1 hcn2
  obtain ⟨c0, c1, c2⟩ := HF8.out.1.cells
  obtain ⟨d0, d1, d2⟩ := HF8.out.2.2.1.cells
  generalize l.set K (p, q - n) = ol at *
  generalize c - n = oc at *
  go_wp2_with fail
  refine (specEnds_any c i a len cap l oc i (some ⟨g, 0, none⟩) len C ol true w.heap.size _ (HF8.out.lanes HS.out) hl HF8.out.2.2.2.1 (by omega) HF8.out.2.2.2.2.1.size).mono ?_
  rintro e y1 ⟨⟨A1, C1, rfl, ho1⟩, hb1⟩
  obtain ⟨R, hR⟩ : ∃ R, endsF c i l oc i ol true = R := ⟨_, rfl⟩
  rw [hR] at ho1 ⊢
  have HR : Hid (endsF c i l oc i ol true = R) := hR
  clear hR
  obtain ⟨⟨rc, ri, rl⟩, rb⟩ := R
  dsimp only at ho1 ⊢
  obtain ⟨m, hm⟩ : ∃ m, rl.length = m := ⟨_, rfl⟩
  have HM : Hid (rl.length = m) := hm
  rw [hm] at ho1 ⊢
  clear hm
  have hx := (HF8.out.stays hb1).2.1
  obtain ⟨g0, g1, g2⟩ := hx.cells
  have f0 := hx.frozen 0
  have f1 := hx.frozen 1
  have f2 := hx.frozen 2
  have HEnd : Hid (OwnL (((y1.setCell ⟨w.heap.size + 1, 0, none⟩ (.int .i64 rc)).setCell ⟨w.heap.size + 1, 1, none⟩ (.int .i64 ri)).setCell ⟨w.heap.size + 1, 2, none⟩ (.slice A1 m C1)) w.heap.size A1 m C1 rl ∧ Below w.heap.size w (((y1.setCell ⟨w.heap.size + 1, 0, none⟩ (.int .i64 rc)).setCell ⟨w.heap.size + 1, 1, none⟩ (.int .i64 ri)).setCell ⟨w.heap.size + 1, 2, none⟩ (.slice A1 m C1))) := ⟨ownL_set3 ho1 (ho1.other (show y1.heap[w.heap.size + 1]? = _ from hx) (by decide)) _ _ _, below_set3 (HF8.out.stays hb1).2.2.2.2.1 (by omega) _ _ _⟩
  clear hx ho1 hb1 HF8
  go_wp2
  refine bodyPost_ret (v := .tuple #[.agg #[.int .i64 rc, .int .i64 ri, .slice A1 m C1], .bool rb]) (by simp [results, Try.f14, go_sem, g0, g1, g2]) rfl ?_
  have h := HM.out
  subst h
  exact ⟨by rw [HR'.out, HR.out]; exact ⟨A1, C1, rfl, HEnd.out.1⟩, HEnd.out.2⟩

end Go.Proofs.Ytkicfiacnpifkad
