/- What the specification's Grant answers. -/
import Derived.Test.YtkicfiacnpifkadFlowSt
import Derived.Test.YtkicfiacnpifkadFlowAtS
import Derived.Test.YtkicfiacnpifkadFlowGrantN
import Derived.Test.YtkicfiacnpifkadL1In
import Derived.Deep.CutBlock
import Derived.Deep.RegionWith
import Derived.Deep.RegionHeld3
import Derived.Deep.RegionLaw
namespace Go.Proofs.Ytkicfiacnpifkad
open Go.RowKit
set_option linter.unusedVariables false

set_option maxRecDepth 10000 in
set_option maxHeartbeats 3200000 in
theorem specGrant_any (c i : Int) (a : Option Addr) (len cap : Nat) (l : List Lane) (id n : Int) (w : World) (hs : Lanes w a len l) (hl : len ≤ 1048576) :
    Calls Try.prog 59 #[.agg #[.int .i64 c, .int .i64 i, .slice a len cap], .int .i64 id, .int .i64 n] w fun e w' => AnsF w.heap.size (grantR c i l id n) e w' ∧ Below w.heap.size w w' := by
  have HSl : Hid (l.length = len) := hs.1
  have HS : Hid (Lanes w a len l) := hs
  obtain ⟨W2, hW2⟩ : ∃ W2, (w.alloc (.cells #[.int .i64 c, .int .i64 i, .slice a len cap] 36)).alloc (.cells #[.int .i64 0, .int .i64 0, .slice none 0 0] 36) = W2 := ⟨_, rfl⟩
  have HE : Hid ((w.alloc (.cells #[.int .i64 c, .int .i64 i, .slice a len cap] 36)).alloc (.cells #[.int .i64 0, .int .i64 0, .slice none 0 0] 36) = W2) := hW2
  have HB2 : Hid (Below w.heap.size w W2) := by show Below _ _ _; rw [← hW2]; exact ((Below.refl _ _).alloc (Nat.le_refl _) _).alloc (by simp) _
  have HQ1 : Hid (Box3 W2 w.heap.size 36 (.int .i64 c) (.int .i64 i) (.slice a len cap)) := by show Box3 _ _ _ _ _ _; rw [← hW2]; exact (Box3.new _ _ _ _ _).alloc _
  have HQ2 : Hid (Box3 W2 (w.heap.size + 1) 36 (.int .i64 0) (.int .i64 0) (.slice none 0 0)) := by show Box3 _ _ _ _ _ _; rw [← hW2]; exact box3_at1 _ _ _ _ _ _
  clear hW2 hs
  go_enter Try.func59, Try.ntmps59
  go_upto_region 1 with fail
  rw [HE.out]
  clear HE
  obtain ⟨c0, c1, c2⟩ := HQ1.out.cells
  go_wp2_with fail
  refine (specFcopy_any c i a len cap l _ (HS.out.below HB2.out) hl).mono ?_
  rintro e x3 ⟨A, C, rfl, ho3, hb3⟩
  have HF : Hid (FSt w (x3.alloc (.cells #[.int .i64 c, .int .i64 i, .slice A len C] 36)) c i a len cap x3.heap.size c i A len C l) := FSt.new HQ1.out HQ2.out HB2.out ho3 hb3
  clear ho3 hb3 HQ1 HQ2 HB2 c0 c1 c2
  go_upto_region 2 with fail
  obtain ⟨W3, hW3⟩ : ∃ W3, x3.alloc (.cells #[.int .i64 c, .int .i64 i, .slice A len C] 36) = W3 := ⟨_, rfl⟩
  rw [hW3] at HF ⊢
  clear hW3
  generalize x3.heap.size = o at *
  obtain ⟨c0, c1, c2⟩ := HF.out.1.cells
  go_wp2_with fail
  refine (specAt_any c i a len cap l id _ (HF.out.lanes HS.out) (by omega)).mono ?_
  rintro e x4 ⟨rfl, hb4⟩
  have HF4 := (show Hid (FSt w x4 c i a len cap o c i A len C l) from HF.out.stays hb4)
  clear hb4 HF c0 c1 c2
  have hr := atL_range id l
  obtain ⟨rf, hrf⟩ : ∃ rf, decide (¬ (1 ≤ n ∧ n ≤ 2147483647) ∨ (id ≠ 0 ∧ atL id l < 0)) = rf := ⟨_, rfl⟩
  have HRf : Hid (decide (¬ (1 ≤ n ∧ n ≤ 2147483647) ∨ (id ≠ 0 ∧ atL id l < 0)) = rf) := hrf
  clear hrf
  go_upto_region 3 with fail
  go_cut [25] from 10 (fun v W => v = .bool rf ∧ Hid (FSt w W c i a len cap o c i A len C l))
  case first =>
    by_cases hn : 1 ≤ n ∧ n ≤ 2147483647
    · have HIn : Hid (∀ W : World, Calls Try.prog 39 #[.int .i64 n, .int .i64 1, .int .i64 2147483647] W fun e w' => e = .returned (.bool true) ∧ w' = W) := fun W => l1In_yes _ _ _ W hn.1 hn.2
      by_cases h0 : id = 0
      · have HT : Hid (false = rf) := by show _ = _; rw [← HRf.out, decide_eq_false (by omega)]
        have hi0 : (id != 0) = false := by simp [h0]
        clear hn h0 hr HRf
        generalize atL id l = k at *
        go_wp2_with fail
        refine (HIn.out _).mono ?_
        rintro e x6 ⟨rfl, hx6⟩
        subst hx6
        go_wp2_with fail
        go_meet
        exact ⟨congrArg Value.bool HT.out, HF4⟩
      · have HT : Hid (decide (atL id l < 0) = rf) := by
          show _ = _
          rw [← HRf.out]
          by_cases hk : atL id l < 0
          · rw [decide_eq_true hk, decide_eq_true (.inr ⟨h0, hk⟩)]
          · rw [decide_eq_false hk, decide_eq_false (by omega)]
        have hi0 : (id != 0) = true := by simpa using h0
        clear hn h0 hr HRf
        generalize atL id l = k at *
        go_wp2_with fail
        refine (HIn.out _).mono ?_
        rintro e x6 ⟨rfl, hx6⟩
        subst hx6
        go_wp2_with fail
        go_meet
        exact ⟨congrArg Value.bool HT.out, HF4⟩
    · have HT : Hid (true = rf) := by show _ = _; rw [← HRf.out, decide_eq_true (.inl hn)]
      have HIn : Hid (∀ W : World, Calls Try.prog 39 #[.int .i64 n, .int .i64 1, .int .i64 2147483647] W fun e w' => e = .returned (.bool false) ∧ w' = W) := fun W => l1In_no _ _ _ W (by omega)
      clear hn hr HRf
      generalize atL id l = k at *
      go_wp2_with fail
      refine (HIn.out _).mono ?_
      rintro e x6 ⟨rfl, hx6⟩
      subst hx6
      go_wp2_with fail
      go_meet
      exact ⟨congrArg Value.bool HT.out, HF4⟩
  case rest =>
  obtain ⟨rfl, HFc⟩ := hcut
  obtain ⟨x5, hx5⟩ : ∃ x5, wc = x5 := ⟨_, rfl⟩
  rw [hx5] at HFc ⊢
  have HF5 := (show Hid (FSt w x5 c i a len cap o c i A len C l) from HFc.out)
  clear hx5 HF4 HFc
  cases rf
  case true =>
    have HR : Hid (grantR c i l id n = ((c, i, l), false)) := if_pos (of_decide_eq_true HRf.out)
    clear HRf hr
    generalize atL id l = k at *
    have hx := HF5.out.2.1
    obtain ⟨g0, g1, g2⟩ := hx.cells
    have f0 := hx.frozen 0
    have f1 := hx.frozen 1
    have f2 := hx.frozen 2
    obtain ⟨d0, d1, d2⟩ := HF5.out.2.2.1.cells
    have HEnd : Hid (OwnL (((x5.setCell ⟨w.heap.size + 1, 0, none⟩ (.int .i64 c)).setCell ⟨w.heap.size + 1, 1, none⟩ (.int .i64 i)).setCell ⟨w.heap.size + 1, 2, none⟩ (.slice A len C)) w.heap.size A len C l ∧ Below w.heap.size w (((x5.setCell ⟨w.heap.size + 1, 0, none⟩ (.int .i64 c)).setCell ⟨w.heap.size + 1, 1, none⟩ (.int .i64 i)).setCell ⟨w.heap.size + 1, 2, none⟩ (.slice A len C))) := ⟨ownL_set3 HF5.out.2.2.2.1 (HF5.out.2.2.2.1.other (show x5.heap[w.heap.size + 1]? = _ from hx) (by decide)) _ _ _, below_set3 HF5.out.2.2.2.2.1 (by omega) _ _ _⟩
    have hoo : w.heap.size + 1 < o := HF5.out.2.2.2.2.2
    clear hx HF5
    go_wp2
    refine bodyPost_ret (v := .tuple #[.agg #[.int .i64 c, .int .i64 i, .slice A len C], .bool false]) (by simp [results, Try.f59, go_sem, g0, g1, g2]) rfl ?_
    have h := HSl.out
    subst h
    exact ⟨by rw [HR.out]; exact ⟨A, C, rfl, HEnd.out.1⟩, HEnd.out.2⟩
  have hno : ¬ (¬ (1 ≤ n ∧ n ≤ 2147483647) ∨ (id ≠ 0 ∧ atL id l < 0)) := of_decide_eq_false HRf.out
  by_cases h0 : id = 0
  · obtain ⟨X, hX⟩ : ∃ X, IntKind.i64.wrap (c + n) = X := ⟨_, rfl⟩
    have HR' : Hid (grantR c i l id n = endsF c i l X i l true) := by
      show _ = _
      rw [grantR, if_neg hno, if_pos h0, hX]
    have hi0 : (id == 0) = true := by simp [h0]
    clear hno hr HRf h0
    generalize atL id l = k at *
    have HF6 := (show Hid (FSt w (x5.setCell ⟨o, 0, none⟩ (.int .i64 X)) c i a len cap o X i A len C l) from HF5.out.set0 X)
    obtain ⟨d0, d1, d2⟩ := HF5.out.2.2.1.cells
    have f0 := HF5.out.2.2.1.frozen 0
    go_upto_region 8 with fail
    obtain ⟨x7, hx7⟩ : ∃ x7, x5.setCell ⟨o, 0, none⟩ (.int .i64 X) = x7 := ⟨_, rfl⟩
    rw [hx7] at HF6 ⊢
    clear hx7 d0 d1 d2 f0 HF5
    obtain ⟨c0, c1, c2⟩ := HF6.out.1.cells
    obtain ⟨d0, d1, d2⟩ := HF6.out.2.2.1.cells
    go_wp2_with fail
    refine (specEnds_any c i a len cap l X i A len C l true w.heap.size _ (HF6.out.lanes HS.out) hl HF6.out.2.2.2.1 (by omega) HF6.out.2.2.2.2.1.size).mono ?_
    rintro e y1 ⟨⟨A1, C1, rfl, ho1⟩, hb1⟩
    obtain ⟨R, hR⟩ : ∃ R, endsF c i l X i l true = R := ⟨_, rfl⟩
    rw [hR] at ho1 ⊢
    have HR : Hid (endsF c i l X i l true = R) := hR
    clear hR
    obtain ⟨⟨rc, ri, rl⟩, rb⟩ := R
    dsimp only at ho1 ⊢
    obtain ⟨m, hm⟩ : ∃ m, rl.length = m := ⟨_, rfl⟩
    have HM : Hid (rl.length = m) := hm
    rw [hm] at ho1 ⊢
    clear hm
    have hx := (HF6.out.stays hb1).2.1
    obtain ⟨g0, g1, g2⟩ := hx.cells
    have f0 := hx.frozen 0
    have f1 := hx.frozen 1
    have f2 := hx.frozen 2
    have HEnd : Hid (OwnL (((y1.setCell ⟨w.heap.size + 1, 0, none⟩ (.int .i64 rc)).setCell ⟨w.heap.size + 1, 1, none⟩ (.int .i64 ri)).setCell ⟨w.heap.size + 1, 2, none⟩ (.slice A1 m C1)) w.heap.size A1 m C1 rl ∧ Below w.heap.size w (((y1.setCell ⟨w.heap.size + 1, 0, none⟩ (.int .i64 rc)).setCell ⟨w.heap.size + 1, 1, none⟩ (.int .i64 ri)).setCell ⟨w.heap.size + 1, 2, none⟩ (.slice A1 m C1))) := ⟨ownL_set3 ho1 (ho1.other (show y1.heap[w.heap.size + 1]? = _ from hx) (by decide)) _ _ _, below_set3 (HF6.out.stays hb1).2.2.2.2.1 (by omega) _ _ _⟩
    clear hx ho1 hb1 HF6
    go_wp2
    refine bodyPost_ret (v := .tuple #[.agg #[.int .i64 rc, .int .i64 ri, .slice A1 m C1], .bool rb]) (by simp [results, Try.f59, go_sem, g0, g1, g2]) rfl ?_
    have h := HM.out
    subst h
    exact ⟨by rw [HR'.out, HR.out]; exact ⟨A1, C1, rfl, HEnd.out.1⟩, HEnd.out.2⟩
  obtain ⟨K, hK⟩ := Int.eq_ofNat_of_zero_le (show 0 ≤ atL id l by omega)
  have hKl : K < len := by have := HSl.out; omega
  obtain ⟨g, rfl⟩ := HF5.out.2.2.2.1.addr (show 0 < len by omega)
  obtain ⟨d0, d1, d2⟩ := HF5.out.2.2.1.cells
  obtain ⟨b, off, p, q, hb, hbl, hkx, hp, hq, hpb, hqb⟩ := HF5.out.2.2.2.1.lanes.at hKl
  injection hb with hb
  injection hb with e1 e2
  subst e1 e2
  rw [Nat.zero_add] at hp hq
  obtain ⟨X, hX⟩ : ∃ X, IntKind.i64.wrap (q + n) = X := ⟨_, rfl⟩
  have HXb : Hid (i64b X) := by show i64b X; rw [← hX]; exact i64b_w _
  have HR' : Hid (grantR c i l id n = endsF c i l c i (l.set K (p, X)) true) := by
    show _ = _
    rw [grantR, if_neg hno, if_neg h0, hK, Int.toNat_natCast, leftTo, laneAt_some hkx, hX]
  have hi0 : (id == 0) = false := by simpa using h0
  have HKx : Hid (l[K]? = some (p, q)) := hkx
  rw [hK]
  clear hno hK hr HRf hkx hpb hqb h0
  have hKi : (K : Int) < (len : Int) := by omega
  have fg : x5.frozen? ⟨g, K * 2 + 1, none⟩ = false := HF5.out.2.2.2.1.1.frozenAt _
  have HF7 := (show Hid (FSt w (x5.setCell ⟨g, K * 2 + 1, none⟩ (.int .i64 X)) c i a len cap o c i (some ⟨g, 0, none⟩) len C (l.set K (p, X))) from HF5.out.left HKx.out X HXb.out)
  go_upto_region 7 with fail
  go_cut [] from 25 (fun W => Hid (FSt w W c i a len cap o c i (some ⟨g, 0, none⟩) len C (l.set K (p, X))))
  case first =>
    go_region_with (fail)
    all_goals
      go_wp2_with fail
      go_meet
      exact HF7.out.drew
  case rest =>
  obtain ⟨x7, hx7⟩ : ∃ x7, wc = x7 := ⟨_, rfl⟩
  rw [hx7] at hcut ⊢
  have HF8 := (show Hid (FSt w x7 c i a len cap o c i (some ⟨g, 0, none⟩) len C (l.set K (p, X))) from hcut.out)
  clear hx7 hcut HF7 HF5 d0 d1 d2 hp hq fg hX
  obtain ⟨c0, c1, c2⟩ := HF8.out.1.cells
  obtain ⟨d0, d1, d2⟩ := HF8.out.2.2.1.cells
  generalize l.set K (p, X) = ol at *
  go_wp2_with fail
  refine (specEnds_any c i a len cap l c i (some ⟨g, 0, none⟩) len C ol true w.heap.size _ (HF8.out.lanes HS.out) hl HF8.out.2.2.2.1 (by omega) HF8.out.2.2.2.2.1.size).mono ?_
  rintro e y1 ⟨⟨A1, C1, rfl, ho1⟩, hb1⟩
  obtain ⟨R, hR⟩ : ∃ R, endsF c i l c i ol true = R := ⟨_, rfl⟩
  rw [hR] at ho1 ⊢
  have HR : Hid (endsF c i l c i ol true = R) := hR
  clear hR
  obtain ⟨⟨rc, ri, rl⟩, rb⟩ := R
  dsimp only at ho1 ⊢
  obtain ⟨m, hm⟩ : ∃ m, rl.length = m := ⟨_, rfl⟩
  have HM : Hid (rl.length = m) := hm
  rw [hm] at ho1 ⊢
  clear hm
  have hx := (HF8.out.stays hb1).2.1
  obtain ⟨g0, g1, g2⟩ := hx.cells
  have f0 := hx.frozen 0
  have f1 := hx.frozen 1
  have f2 := hx.frozen 2
  have HEnd : Hid (OwnL (((y1.setCell ⟨w.heap.size + 1, 0, none⟩ (.int .i64 rc)).setCell ⟨w.heap.size + 1, 1, none⟩ (.int .i64 ri)).setCell ⟨w.heap.size + 1, 2, none⟩ (.slice A1 m C1)) w.heap.size A1 m C1 rl ∧ Below w.heap.size w (((y1.setCell ⟨w.heap.size + 1, 0, none⟩ (.int .i64 rc)).setCell ⟨w.heap.size + 1, 1, none⟩ (.int .i64 ri)).setCell ⟨w.heap.size + 1, 2, none⟩ (.slice A1 m C1))) := ⟨ownL_set3 ho1 (ho1.other (show y1.heap[w.heap.size + 1]? = _ from hx) (by decide)) _ _ _, below_set3 (HF8.out.stays hb1).2.2.2.2.1 (by omega) _ _ _⟩
  clear hx ho1 hb1 HF8
  go_wp2
  refine bodyPost_ret (v := .tuple #[.agg #[.int .i64 rc, .int .i64 ri, .slice A1 m C1], .bool rb]) (by simp [results, Try.f59, go_sem, g0, g1, g2]) rfl ?_
  have h := HM.out
  subst h
  exact ⟨by rw [HR'.out, HR.out]; exact ⟨A1, C1, rfl, HEnd.out.1⟩, HEnd.out.2⟩

end Go.Proofs.Ytkicfiacnpifkad
