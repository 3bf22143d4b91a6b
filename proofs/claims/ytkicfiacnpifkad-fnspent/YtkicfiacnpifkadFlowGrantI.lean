/- What the program's Grant answers. -/
import Derived.Test.YtkicfiacnpifkadFlowSt
import Derived.Test.YtkicfiacnpifkadFlowClone
import Derived.Test.YtkicfiacnpifkadFlowAts
import Derived.Test.YtkicfiacnpifkadFlowOkI
import Derived.Test.YtkicfiacnpifkadFlowPureI
import Derived.Deep.CutBlock
import Derived.Deep.RegionWith
import Derived.Deep.RegionHeld3
import Derived.Deep.RegionLaw
namespace Go.Proofs.Ytkicfiacnpifkad
open Go.RowKit
set_option linter.unusedVariables false

theorem implWin0_any (b : Nat) (w : World) : Calls Try.prog 45 #[.pointer (some ⟨b, 0, none⟩), .int .i64 0] w fun e w' => e = .returned (.pointer (some ⟨b, 0, none⟩)) ∧ w' = w := by
  go_enter Try.func45, Try.ntmps45
  go_wp2_with fail
  go_ret
  exact ⟨rfl, rfl⟩

/-- What is left on the lane that is reached: its place in memory, or none. -/
def winO (a : Option Addr) (k : Int) : Option Addr := (reachO a k).map fun ad => ⟨ad.block, ad.off + 1, none⟩

theorem implWinL_any (b : Nat) (a : Option Addr) (len cap : Nat) (l : List Lane) (id : Int) (w : World) (hd : w.cell? ⟨b, 2, none⟩ = some (.slice a len cap)) (hs : Lanes w a len l) (hl : len ≤ 1099511627776) (hid : id ≠ 0) :
    Calls Try.prog 45 #[.pointer (some ⟨b, 0, none⟩), .int .i64 id] w fun e w' => e = .returned (.pointer (winO a (atL id l))) ∧ Below w.heap.size w w' := by
  have HS : Hid (Lanes w a len l) := hs
  have hid0 : (id == 0) = false := by simpa using hid
  clear hs
  go_enter Try.func45, Try.ntmps45
  go_wp2_with fail
  refine (implLanesOf_any _ _ _ hd).mono ?_
  rintro e x4 ⟨rfl, hx4⟩
  subst hx4
  go_wp2_with fail
  refine (implReach_any a len cap l id _ HS.out hl).mono ?_
  rintro e x5 ⟨rfl, hb5⟩
  have HB5 : Hid (Below x4.heap.size x4 x5) := hb5
  clear hb5 hd
  obtain ⟨pp, hpp⟩ : ∃ pp, reachO a (atL id l) = pp := ⟨_, rfl⟩
  have HPP : Hid (reachO a (atL id l) = pp) := hpp
  rw [reachP, hpp]
  clear hpp
  cases pp with
  | none =>
    go_wp2_with fail
    go_ret
    exact ⟨by rw [winO, HPP.out]; rfl, HB5.out⟩
  | some ad =>
    obtain ⟨ab, ao, hao⟩ : ∃ ab ao, ad = ⟨ab, ao, none⟩ := by
      have h := HPP.out
      cases a with
      | none => simp [reachO] at h
      | some x =>
        simp only [reachO] at h
        split at h
        · cases h
        · injection h with h
          exact ⟨_, _, h.symm⟩
    subst hao
    go_wp2_with fail
    go_ret
    exact ⟨by rw [winO, HPP.out]; rfl, HB5.out⟩

set_option maxRecDepth 10000 in
set_option maxHeartbeats 3200000 in
theorem implGrant0_any (c i : Int) (a : Option Addr) (len cap : Nat) (l : List Lane) (n : Int) (w : World) (hs : Lanes w a len l) (hl : len ≤ 1048576) :
    Calls Try.prog 17 #[.agg #[.int .i64 c, .int .i64 i, .slice a len cap], .int .i64 0, .int .i64 n] w fun e w' => AnsF w.heap.size (grantR c i l 0 n) e w' ∧ Below w.heap.size w w' := by
  have HSl : Hid (l.length = len) := hs.1
  have HS : Hid (Lanes w a len l) := hs
  obtain ⟨W2, hW2⟩ : ∃ W2, (w.alloc (.cells #[.int .i64 c, .int .i64 i, .slice a len cap] 36)).alloc (.cells #[.int .i64 0, .int .i64 0, .slice none 0 0] 36) = W2 := ⟨_, rfl⟩
  have HE : Hid ((w.alloc (.cells #[.int .i64 c, .int .i64 i, .slice a len cap] 36)).alloc (.cells #[.int .i64 0, .int .i64 0, .slice none 0 0] 36) = W2) := hW2
  have HB2 : Hid (Below w.heap.size w W2) := by show Below _ _ _; rw [← hW2]; exact ((Below.refl _ _).alloc (Nat.le_refl _) _).alloc (by simp) _
  have HQ1 : Hid (Box3 W2 w.heap.size 36 (.int .i64 c) (.int .i64 i) (.slice a len cap)) := by show Box3 _ _ _ _ _ _; rw [← hW2]; exact (Box3.new _ _ _ _ _).alloc _
  have HQ2 : Hid (Box3 W2 (w.heap.size + 1) 36 (.int .i64 0) (.int .i64 0) (.slice none 0 0)) := by show Box3 _ _ _ _ _ _; rw [← hW2]; exact box3_at1 _ _ _ _ _ _
  clear hW2 hs
  go_enter Try.func17, Try.ntmps17
  go_upto_region 1 with fail
  rw [HE.out]
  clear HE
  obtain ⟨c0, c1, c2⟩ := HQ1.out.cells
  go_wp2_with fail
  refine (implFcopy_any c i a len cap l _ (HS.out.below HB2.out) hl).mono ?_
  rintro e x3 ⟨A, C, rfl, ho3, hb3⟩
  have HF : Hid (FSt w (x3.alloc (.cells #[.int .i64 c, .int .i64 i, .slice A len C] 36)) c i a len cap x3.heap.size c i A len C l) := FSt.new HQ1.out HQ2.out HB2.out ho3 hb3
  clear ho3 hb3 HQ1 HQ2 HB2 c0 c1 c2
  go_upto_region 2 with fail
  obtain ⟨W3, hW3⟩ : ∃ W3, x3.alloc (.cells #[.int .i64 c, .int .i64 i, .slice A len C] 36) = W3 := ⟨_, rfl⟩
  rw [hW3] at HF ⊢
  clear hW3
  generalize x3.heap.size = o at *
  go_wp2_with fail
  refine (implWin0_any o _).mono ?_
  rintro e x4 ⟨rfl, hx4⟩
  subst hx4
  have HF4 := (show Hid (FSt w x4 c i a len cap o c i A len C l) from HF.out)
  clear HF
  obtain ⟨rf, hrf⟩ : ∃ rf, (!okB c i l || decide (n < 1) || decide (2147483647 < n) || decide (2147483647 - n < c)) = rf := ⟨_, rfl⟩
  have HRf : Hid ((!okB c i l || decide (n < 1) || decide (2147483647 < n) || decide (2147483647 - n < c)) = rf) := hrf
  clear hrf
  go_upto_region 3 with fail
  go_cut [36] from 10 (fun v W => v = .bool rf ∧ Hid (FSt w W c i a len cap o c i A len C l))
  case first =>
    obtain ⟨c0, c1, c2⟩ := HF4.out.1.cells
    go_wp2_with fail
    refine (implFok_any c i a len cap l _ (HF4.out.lanes HS.out) (by omega)).mono ?_
    rintro e x5 ⟨rfl, hb5⟩
    have HF5 := (show Hid (FSt w x5 c i a len cap o c i A len C l) from HF4.out.stays hb5)
    clear hb5 HF4 c0 c1 c2
    generalize okB c i l = ob at *
    cases ob
    · go_wp2_with fail
      go_meet
      exact ⟨congrArg Value.bool (by rw [← HRf.out]; rfl), HF5⟩
    by_cases h0 : n < 1
    · rw [decide_eq_true h0] at HRf
      go_wp2_with fail
      go_meet
      exact ⟨congrArg Value.bool (by rw [← HRf.out]; rfl), HF5⟩
    rw [decide_eq_false h0] at HRf
    by_cases h1 : 2147483647 < n
    · rw [decide_eq_true h1] at HRf
      go_wp2_with fail
      go_meet
      exact ⟨congrArg Value.bool (by rw [← HRf.out]; rfl), HF5⟩
    rw [decide_eq_false h1] at HRf
    have hwn : IntKind.i64.wrap (2147483647 - n) = 2147483647 - n := wrap_in' (by omega)
    obtain ⟨d0, d1, d2⟩ := HF5.out.2.2.1.cells
    go_wp2_with fail
    go_meet
    exact ⟨congrArg Value.bool (by rw [← HRf.out]; simp; omega), HF5⟩
  case rest =>
  obtain ⟨rfl, HFc⟩ := hcut
  obtain ⟨x5, hx5⟩ : ∃ x5, wc = x5 := ⟨_, rfl⟩
  rw [hx5] at HFc ⊢
  have HF5 := (show Hid (FSt w x5 c i a len cap o c i A len C l) from HFc.out)
  clear hx5 HF4 HFc
  cases rf
  case true =>
    have HR : Hid (grantR c i l 0 n = ((c, i, l), false)) := by
      show _ = _
      have h := HRf.out
      cases hob : okB c i l
      · exact grantR_no (.inl hob)
      · by_cases h0 : n < 1
        · exact grantR_no (.inr (.inl h0))
        · by_cases h1 : 2147483647 < n
          · exact grantR_no (.inr (.inr (.inl h1)))
          · rw [hob, decide_eq_false h0, decide_eq_false h1] at h
            rw [grantR_all hob (by omega) (by omega), if_pos (by simpa using h)]
    clear HRf
    have hx := HF5.out.2.1
    obtain ⟨g0, g1, g2⟩ := hx.cells
    have f0 := hx.frozen 0
    have f1 := hx.frozen 1
    have f2 := hx.frozen 2
    obtain ⟨d0, d1, d2⟩ := HF5.out.2.2.1.cells
    have HEnd : Hid (OwnL (((x5.setCell ⟨w.heap.size + 1, 0, none⟩ (.int .i64 c)).setCell ⟨w.heap.size + 1, 1, none⟩ (.int .i64 i)).setCell ⟨w.heap.size + 1, 2, none⟩ (.slice A len C)) w.heap.size A len C _ ∧ Below w.heap.size w (((x5.setCell ⟨w.heap.size + 1, 0, none⟩ (.int .i64 c)).setCell ⟨w.heap.size + 1, 1, none⟩ (.int .i64 i)).setCell ⟨w.heap.size + 1, 2, none⟩ (.slice A len C))) := ⟨ownL_set3 HF5.out.2.2.2.1 (HF5.out.2.2.2.1.other (show x5.heap[w.heap.size + 1]? = _ from hx) (by decide)) _ _ _, below_set3 HF5.out.2.2.2.2.1 (by omega) _ _ _⟩
    have hoo : w.heap.size + 1 < o := HF5.out.2.2.2.2.2
    have HLn := (show Hid (_ = len) from HF5.out.2.2.2.1.len)
    clear hx HF5
    go_wp2
    refine bodyPost_ret (v := .tuple #[.agg #[.int .i64 c, .int .i64 i, .slice A len C], .bool false]) (by simp [results, Try.f17, go_sem, g0, g1, g2]) rfl ?_
    exact ⟨by rw [HR.out]; exact ⟨A, C, by rw [HLn.out], by rw [HLn.out]; exact HEnd.out.1⟩, HEnd.out.2⟩
  have hno := HRf.out
  simp only [Bool.or_eq_false_iff, Bool.not_eq_false', decide_eq_false_iff_not] at hno
  obtain ⟨⟨⟨hob, h0⟩, h1⟩, h2⟩ := hno
  have HR : Hid (grantR c i l 0 n = ((c + n, i, l), true)) := by
    show _ = _
    rw [grantR_all hob (by omega) (by omega), if_neg h2]
  have hokc := (okB_iff.1 hob).2.1
  have hcn : IntKind.i64.wrap (c + n) = c + n := wrap_in' (by omega)
  clear hob h0 h1 h2 hokc HRf
  have HF6 := (show Hid (FSt w (x5.setCell ⟨o, 0, none⟩ (.int .i64 (c + n))) c i a len cap o (c + n) i A len C l) from HF5.out.set0 (c + n))
  obtain ⟨d0, d1, d2⟩ := HF5.out.2.2.1.cells
  have f0 := HF5.out.2.2.1.frozen 0
  go_upto_region 6 with fail
  obtain ⟨x6, hx6⟩ : ∃ x6, x5.setCell ⟨o, 0, none⟩ (.int .i64 (c + n)) = x6 := ⟨_, rfl⟩
  rw [hx6] at HF6 ⊢
  clear hx6 d0 d1 d2 f0 HF5 hcn
  generalize c + n = oc at *
  have hx := HF6.out.2.1
  obtain ⟨g0, g1, g2⟩ := hx.cells
  have f0 := hx.frozen 0
  have f1 := hx.frozen 1
  have f2 := hx.frozen 2
  obtain ⟨d0, d1, d2⟩ := HF6.out.2.2.1.cells
  have HEnd : Hid (OwnL (((x6.setCell ⟨w.heap.size + 1, 0, none⟩ (.int .i64 oc)).setCell ⟨w.heap.size + 1, 1, none⟩ (.int .i64 i)).setCell ⟨w.heap.size + 1, 2, none⟩ (.slice A len C)) w.heap.size A len C _ ∧ Below w.heap.size w (((x6.setCell ⟨w.heap.size + 1, 0, none⟩ (.int .i64 oc)).setCell ⟨w.heap.size + 1, 1, none⟩ (.int .i64 i)).setCell ⟨w.heap.size + 1, 2, none⟩ (.slice A len C))) := ⟨ownL_set3 HF6.out.2.2.2.1 (HF6.out.2.2.2.1.other (show x6.heap[w.heap.size + 1]? = _ from hx) (by decide)) _ _ _, below_set3 HF6.out.2.2.2.2.1 (by omega) _ _ _⟩
  have hoo : w.heap.size + 1 < o := HF6.out.2.2.2.2.2
  have HLn := (show Hid (_ = len) from HF6.out.2.2.2.1.len)
  clear hx HF6
  go_wp2
  refine bodyPost_ret (v := .tuple #[.agg #[.int .i64 oc, .int .i64 i, .slice A len C], .bool true]) (by simp [results, Try.f17, go_sem, g0, g1, g2]) rfl ?_
  exact ⟨by rw [HR.out]; exact ⟨A, C, by rw [HLn.out], by rw [HLn.out]; exact HEnd.out.1⟩, HEnd.out.2⟩

set_option maxRecDepth 10000 in
set_option maxHeartbeats 3200000 in
theorem implGrantL_any (c i : Int) (a : Option Addr) (len cap : Nat) (l : List Lane) (id n : Int) (w : World) (hs : Lanes w a len l) (hl : len ≤ 1048576) (hid : id ≠ 0) :
    Calls Try.prog 17 #[.agg #[.int .i64 c, .int .i64 i, .slice a len cap], .int .i64 id, .int .i64 n] w fun e w' => AnsF w.heap.size (grantR c i l id n) e w' ∧ Below w.heap.size w w' := by
  have HId : Hid (id ≠ 0) := hid
  clear hid
  have HSl : Hid (l.length = len) := hs.1
  have HS : Hid (Lanes w a len l) := hs
  obtain ⟨W2, hW2⟩ : ∃ W2, (w.alloc (.cells #[.int .i64 c, .int .i64 i, .slice a len cap] 36)).alloc (.cells #[.int .i64 0, .int .i64 0, .slice none 0 0] 36) = W2 := ⟨_, rfl⟩
  have HE : Hid ((w.alloc (.cells #[.int .i64 c, .int .i64 i, .slice a len cap] 36)).alloc (.cells #[.int .i64 0, .int .i64 0, .slice none 0 0] 36) = W2) := hW2
  have HB2 : Hid (Below w.heap.size w W2) := by show Below _ _ _; rw [← hW2]; exact ((Below.refl _ _).alloc (Nat.le_refl _) _).alloc (by simp) _
  have HQ1 : Hid (Box3 W2 w.heap.size 36 (.int .i64 c) (.int .i64 i) (.slice a len cap)) := by show Box3 _ _ _ _ _ _; rw [← hW2]; exact (Box3.new _ _ _ _ _).alloc _
  have HQ2 : Hid (Box3 W2 (w.heap.size + 1) 36 (.int .i64 0) (.int .i64 0) (.slice none 0 0)) := by show Box3 _ _ _ _ _ _; rw [← hW2]; exact box3_at1 _ _ _ _ _ _
  clear hW2 hs
  go_enter Try.func17, Try.ntmps17
  go_upto_region 1 with fail
  rw [HE.out]
  clear HE
  obtain ⟨c0, c1, c2⟩ := HQ1.out.cells
  go_wp2_with fail
  refine (implFcopy_any c i a len cap l _ (HS.out.below HB2.out) hl).mono ?_
  rintro e x3 ⟨A, C, rfl, ho3, hb3⟩
  have HF : Hid (FSt w (x3.alloc (.cells #[.int .i64 c, .int .i64 i, .slice A len C] 36)) c i a len cap x3.heap.size c i A len C l) := FSt.new HQ1.out HQ2.out HB2.out ho3 hb3
  clear ho3 hb3 HQ1 HQ2 HB2 c0 c1 c2
  go_upto_region 2 with fail
  obtain ⟨W3, hW3⟩ : ∃ W3, x3.alloc (.cells #[.int .i64 c, .int .i64 i, .slice A len C] 36) = W3 := ⟨_, rfl⟩
  rw [hW3] at HF ⊢
  clear hW3
  generalize x3.heap.size = o at *
  obtain ⟨d0, d1, d2⟩ := HF.out.2.2.1.cells
  go_wp2_with fail
  refine (implWinL_any o A len C l id _ d2 HF.out.2.2.2.1.lanes (by omega) HId.out).mono ?_
  rintro e x4 ⟨rfl, hb4⟩
  have HF4 := (show Hid (FSt w x4 c i a len cap o c i A len C l) from HF.out.stays hb4)
  clear hb4 HF d0 d1 d2
  obtain ⟨pp, hpp⟩ : ∃ pp, winO A (atL id l) = pp := ⟨_, rfl⟩
  have HPP : Hid (winO A (atL id l) = pp) := hpp
  rw [hpp]
  clear hpp
  obtain ⟨q, hq⟩ : ∃ q, (laneAt l (atL id l).toNat).2 = q := ⟨_, rfl⟩
  have HQ : Hid ((laneAt l (atL id l).toNat).2 = q) := hq
  clear hq
  have HPn : Hid (pp = none → atL id l < 0) := fun e => reachO_none HF4.out.2.2.2.1.lanes (by have h := HPP.out; rw [e, winO] at h; simpa using h)
  have HPs : Hid (∀ ad, pp = some ad → ∃ K b p, ad = ⟨b, K * 2 + 1, none⟩ ∧ atL id l = ((K : Nat) : Int) ∧ K < len ∧ A = some ⟨b, 0, none⟩ ∧ l[K]? = some (p, q) ∧ laneAt l K = (p, q)) := fun ad e => by
    have h := HPP.out
    rw [e, winO] at h
    obtain ⟨x, hx, hxa⟩ := Option.map_eq_some_iff.1 h
    obtain ⟨K, b, off, p, q', hK, hKl, hA, hb, hr, hla, hkx, _⟩ := reach_some HF4.out.2.2.2.1.lanes (reachO_some hx)
    obtain ⟨g, hg⟩ := HF4.out.2.2.2.1.addr (show 0 < len by omega)
    rw [hg] at hA
    injection hA with hA
    injection hA with e1 e2
    subst e1 e2
    rw [reachP, hx] at hr
    injection hr with hr
    injection hr with hr
    have hq2 := HQ.out
    rw [hK, Int.toNat_natCast, hla] at hq2
    dsimp only at hq2
    subst hq2
    refine ⟨K, g, p, ?_, hK, hKl, hg, hkx, hla⟩
    rw [← hxa, hr]
    simp
  clear HPP HQ
  obtain ⟨rf, hrf⟩ : ∃ rf, (!okB c i l || decide (n < 1) || decide (2147483647 < n) || pp.isNone || decide (2147483647 - n < q)) = rf := ⟨_, rfl⟩
  have HRf : Hid ((!okB c i l || decide (n < 1) || decide (2147483647 < n) || pp.isNone || decide (2147483647 - n < q)) = rf) := hrf
  clear hrf
  go_upto_region 3 with fail
  go_cut [36] from 10 (fun v W => v = .bool rf ∧ Hid (FSt w W c i a len cap o c i A len C l))
  case first =>
    obtain ⟨c0, c1, c2⟩ := HF4.out.1.cells
    go_wp2_with fail
    refine (implFok_any c i a len cap l _ (HF4.out.lanes HS.out) (by omega)).mono ?_
    rintro e x5 ⟨rfl, hb5⟩
    have HF5 := (show Hid (FSt w x5 c i a len cap o c i A len C l) from HF4.out.stays hb5)
    clear hb5 HF4 c0 c1 c2
    generalize okB c i l = ob at *
    cases ob
    · go_wp2_with fail
      go_meet
      exact ⟨congrArg Value.bool (by rw [← HRf.out]; rfl), HF5⟩
    by_cases h0 : n < 1
    · rw [decide_eq_true h0] at HRf
      go_wp2_with fail
      go_meet
      exact ⟨congrArg Value.bool (by rw [← HRf.out]; rfl), HF5⟩
    rw [decide_eq_false h0] at HRf
    by_cases h1 : 2147483647 < n
    · rw [decide_eq_true h1] at HRf
      go_wp2_with fail
      go_meet
      exact ⟨congrArg Value.bool (by rw [← HRf.out]; rfl), HF5⟩
    rw [decide_eq_false h1] at HRf
    cases pp with
    | none =>
      go_wp2_with fail
      go_meet
      exact ⟨congrArg Value.bool (by rw [← HRf.out]; rfl), HF5⟩
    | some ad =>
    obtain ⟨K, b, p, rfl, hK, hKl, rfl, hkx, hla⟩ := HPs.out ad rfl
    have hwn : IntKind.i64.wrap (2147483647 - n) = 2147483647 - n := wrap_in' (by omega)
    obtain ⟨b', off, p', q', hb', hbl, hkx', hp, hq, _, _⟩ := HF5.out.2.2.2.1.lanes.at hKl
    injection hb' with hb'
    injection hb' with e1 e2
    subst e1 e2
    obtain ⟨rfl, rfl⟩ : p = p' ∧ q = q' := by rw [hkx] at hkx'; simpa using hkx'
    rw [Nat.zero_add] at hp hq
    clear hkx hkx' hla hK
    go_wp2_with fail
    go_meet
    exact ⟨congrArg Value.bool (by rw [← HRf.out]; simp; omega), HF5⟩
  case rest =>
  obtain ⟨rfl, HFc⟩ := hcut
  obtain ⟨x5, hx5⟩ : ∃ x5, wc = x5 := ⟨_, rfl⟩
  rw [hx5] at HFc ⊢
  have HF5 := (show Hid (FSt w x5 c i a len cap o c i A len C l) from HFc.out)
  clear hx5 HF4 HFc
  cases rf
  case true =>
    have HR : Hid (grantR c i l id n = ((c, i, l), false)) := by
      show _ = _
      have h := HRf.out
      cases hob : okB c i l
      · exact grantR_no (.inl hob)
      · by_cases h0 : n < 1
        · exact grantR_no (.inr (.inl h0))
        · by_cases h1 : 2147483647 < n
          · exact grantR_no (.inr (.inr (.inl h1)))
          · cases hpp : pp with
            | none => exact grantR_no (.inr (.inr (.inr ⟨HId.out, HPn.out hpp⟩)))
            | some ad =>
              obtain ⟨K, b, p, _, hK, hKl, _, hkx, hla⟩ := HPs.out ad hpp
              rw [hob, decide_eq_false h0, decide_eq_false h1, hpp] at h
              rw [grantR_lane hob HId.out hK (by omega) (by omega), hla, if_pos (by simpa using h)]
    clear HRf HPs HPn
    have hx := HF5.out.2.1
    obtain ⟨g0, g1, g2⟩ := hx.cells
    have f0 := hx.frozen 0
    have f1 := hx.frozen 1
    have f2 := hx.frozen 2
    obtain ⟨d0, d1, d2⟩ := HF5.out.2.2.1.cells
    have HEnd : Hid (OwnL (((x5.setCell ⟨w.heap.size + 1, 0, none⟩ (.int .i64 c)).setCell ⟨w.heap.size + 1, 1, none⟩ (.int .i64 i)).setCell ⟨w.heap.size + 1, 2, none⟩ (.slice A len C)) w.heap.size A len C _ ∧ Below w.heap.size w (((x5.setCell ⟨w.heap.size + 1, 0, none⟩ (.int .i64 c)).setCell ⟨w.heap.size + 1, 1, none⟩ (.int .i64 i)).setCell ⟨w.heap.size + 1, 2, none⟩ (.slice A len C))) := ⟨ownL_set3 HF5.out.2.2.2.1 (HF5.out.2.2.2.1.other (show x5.heap[w.heap.size + 1]? = _ from hx) (by decide)) _ _ _, below_set3 HF5.out.2.2.2.2.1 (by omega) _ _ _⟩
    have hoo : w.heap.size + 1 < o := HF5.out.2.2.2.2.2
    have HLn := (show Hid (_ = len) from HF5.out.2.2.2.1.len)
    clear hx HF5
    go_wp2
    refine bodyPost_ret (v := .tuple #[.agg #[.int .i64 c, .int .i64 i, .slice A len C], .bool false]) (by simp [results, Try.f17, go_sem, g0, g1, g2]) rfl ?_
    exact ⟨by rw [HR.out]; exact ⟨A, C, by rw [HLn.out], by rw [HLn.out]; exact HEnd.out.1⟩, HEnd.out.2⟩
  have hno := HRf.out
  simp only [Bool.or_eq_false_iff, Bool.not_eq_false', decide_eq_false_iff_not] at hno
  obtain ⟨⟨⟨⟨hob, h0⟩, h1⟩, h3⟩, h2⟩ := hno
  cases pp with
  | none => simp at h3
  | some ad =>
  obtain ⟨K, b, p, rfl, hK, hKl, rfl, hkx, hla⟩ := HPs.out ad rfl
  have HR : Hid (grantR c i l id n = ((c, i, l.set K (p, q + n)), true)) := by
    show _ = _
    rw [grantR_lane hob HId.out hK (by omega) (by omega), hla, if_neg h2, leftTo, hla]
  have hokl := (okB_iff.1 hob).1 K (by have := HSl.out; omega)
  unfold badAt at hokl
  rw [hla] at hokl
  dsimp only at hokl
  have hqn1 : i64b (q + n) := by unfold i64b; omega
  have hqn : IntKind.i64.wrap (q + n) = q + n := wrap_in' hqn1
  have HKx : Hid (l[K]? = some (p, q)) := hkx
  have HQn : Hid (i64b (q + n)) := hqn1
  clear hob h0 h1 h2 h3 hla hK HRf hkx hokl hqn1 HPs HPn
  obtain ⟨b', off, p', q', hb', hbl, hkx, hp, hq, _, _⟩ := HF5.out.2.2.2.1.lanes.at hKl
  injection hb' with hb'
  injection hb' with e1 e2
  subst e1 e2
  obtain ⟨rfl, rfl⟩ : p = p' ∧ q = q' := by rw [HKx.out] at hkx; simpa using hkx
  clear hkx
  rw [Nat.zero_add] at hp hq
  have fg : x5.frozen? ⟨b, K * 2 + 1, none⟩ = false := HF5.out.2.2.2.1.1.frozenAt _
  have HF7 := (show Hid (FSt w (x5.setCell ⟨b, K * 2 + 1, none⟩ (.int .i64 (q + n))) c i a len cap o c i (some ⟨b, 0, none⟩) len C (l.set K (p, q + n))) from HF5.out.left HKx.out (q + n) HQn.out)
  go_upto_region 6 with fail
  obtain ⟨x7, hx7⟩ : ∃ x7, x5.setCell ⟨b, K * 2 + 1, none⟩ (.int .i64 (q + n)) = x7 := ⟨_, rfl⟩
  rw [hx7] at HF7 ⊢
  clear hx7 hp hq fg HF5 hqn
  have hx := HF7.out.2.1
  obtain ⟨g0, g1, g2⟩ := hx.cells
  have f0 := hx.frozen 0
  have f1 := hx.frozen 1
  have f2 := hx.frozen 2
  obtain ⟨d0, d1, d2⟩ := HF7.out.2.2.1.cells
  have HEnd : Hid (OwnL (((x7.setCell ⟨w.heap.size + 1, 0, none⟩ (.int .i64 c)).setCell ⟨w.heap.size + 1, 1, none⟩ (.int .i64 i)).setCell ⟨w.heap.size + 1, 2, none⟩ (.slice (some ⟨b, 0, none⟩) len C)) w.heap.size (some ⟨b, 0, none⟩) len C _ ∧ Below w.heap.size w (((x7.setCell ⟨w.heap.size + 1, 0, none⟩ (.int .i64 c)).setCell ⟨w.heap.size + 1, 1, none⟩ (.int .i64 i)).setCell ⟨w.heap.size + 1, 2, none⟩ (.slice (some ⟨b, 0, none⟩) len C))) := ⟨ownL_set3 HF7.out.2.2.2.1 (HF7.out.2.2.2.1.other (show x7.heap[w.heap.size + 1]? = _ from hx) (by decide)) _ _ _, below_set3 HF7.out.2.2.2.2.1 (by omega) _ _ _⟩
  have hoo : w.heap.size + 1 < o := HF7.out.2.2.2.2.2
  have HLn := (show Hid (_ = len) from HF7.out.2.2.2.1.len)
  clear hx HF7
  go_wp2
  refine bodyPost_ret (v := .tuple #[.agg #[.int .i64 c, .int .i64 i, .slice (some ⟨b, 0, none⟩) len C], .bool true]) (by simp [results, Try.f17, go_sem, g0, g1, g2]) rfl ?_
  exact ⟨by rw [HR.out]; exact ⟨(some ⟨b, 0, none⟩), C, by rw [HLn.out], by rw [HLn.out]; exact HEnd.out.1⟩, HEnd.out.2⟩

theorem implGrant_any (c i : Int) (a : Option Addr) (len cap : Nat) (l : List Lane) (id n : Int) (w : World) (hs : Lanes w a len l) (hl : len ≤ 1048576) :
    Calls Try.prog 17 #[.agg #[.int .i64 c, .int .i64 i, .slice a len cap], .int .i64 id, .int .i64 n] w fun e w' => AnsF w.heap.size (grantR c i l id n) e w' ∧ Below w.heap.size w w' := by
  by_cases h : id = 0
  · subst h
    exact implGrant0_any c i a len cap l n w hs hl
  · exact implGrantL_any c i a len cap l id n w hs hl h

end Go.Proofs.Ytkicfiacnpifkad
