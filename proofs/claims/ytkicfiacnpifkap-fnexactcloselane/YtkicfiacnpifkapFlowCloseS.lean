/- What the specification's CloseLane answers. -/
import Derived.Test.YtkicfiacnpifkapFlowSt
import Derived.Test.YtkicfiacnpifkapFlowAtS
import Derived.Test.YtkicfiacnpifkapFlowOpenN
import Derived.Test.YtkicfiacnpifkapStepGot
import Derived.Test.YtkicfiacnpifkapLaneCut
import Derived.Deep.CutBlock
import Derived.Deep.RegionWith
import Derived.Deep.RegionHeld3
import Derived.Deep.RegionLaw
namespace Go.Proofs.Ytkicfiacnpifkap
open Go.RowKit
set_option linter.unusedVariables false

set_option maxRecDepth 10000 in
set_option maxHeartbeats 3200000 in
theorem specClose_any (c i : Int) (a : Option Addr) (len cap : Nat) (l : List Lane) (id : Int) (w : World) (hs : Lanes w a len l) (hl : len ≤ 1048576) (hcap : len ≤ cap) :
    Calls Try.prog 20 #[.agg #[.int .i64 c, .int .i64 i, .slice a len cap], .int .i64 id] w fun e w' => AnsF w.heap.size (closeR c i l id) e w' ∧ Below w.heap.size w w' := by
  obtain ⟨i0, hi, hz0, hz1, hz2⟩ := info_parts info_lane
  have HSl : Hid (l.length = len) := hs.1
  have HS : Hid (Lanes w a len l) := hs
  obtain ⟨W2, hW2⟩ : ∃ W2, (w.alloc (.cells #[.int .i64 c, .int .i64 i, .slice a len cap] 29)).alloc (.cells #[.int .i64 0, .int .i64 0, .slice none 0 0] 29) = W2 := ⟨_, rfl⟩
  have HE : Hid ((w.alloc (.cells #[.int .i64 c, .int .i64 i, .slice a len cap] 29)).alloc (.cells #[.int .i64 0, .int .i64 0, .slice none 0 0] 29) = W2) := hW2
  have HB2 : Hid (Below w.heap.size w W2) := by show Below _ _ _; rw [← hW2]; exact ((Below.refl _ _).alloc (Nat.le_refl _) _).alloc (by simp) _
  have HQ1 : Hid (Box3 W2 w.heap.size 29 (.int .i64 c) (.int .i64 i) (.slice a len cap)) := by show Box3 _ _ _ _ _ _; rw [← hW2]; exact (Box3.new _ _ _ _ _).alloc _
  have HQ2 : Hid (Box3 W2 (w.heap.size + 1) 29 (.int .i64 0) (.int .i64 0) (.slice none 0 0)) := by show Box3 _ _ _ _ _ _; rw [← hW2]; exact box3_at1 _ _ _ _ _ _
  clear hW2 hs
  go_enter Try.func20, Try.ntmps20
  go_upto_region 1 with fail
  rw [HE.out]
  clear HE
  obtain ⟨c0, c1, c2⟩ := HQ1.out.cells
  go_wp2_with fail
  refine (specFcopy_any c i a len cap l _ (HS.out.below HB2.out) hl).mono ?_
  rintro e x3 ⟨A, C, rfl, ho3, hb3⟩
  have HF : Hid (FSt w (x3.alloc (.cells #[.int .i64 c, .int .i64 i, .slice A len C] 29)) c i a len cap x3.heap.size c i A len C l) := FSt.new HQ1.out HQ2.out HB2.out ho3 hb3
  clear ho3 hb3 HQ1 HQ2 HB2 c0 c1 c2
  go_upto_region 2 with fail
  obtain ⟨W3, hW3⟩ : ∃ W3, x3.alloc (.cells #[.int .i64 c, .int .i64 i, .slice A len C] 29) = W3 := ⟨_, rfl⟩
  rw [hW3] at HF ⊢
  clear hW3
  generalize x3.heap.size = o at *
  obtain ⟨c0, c1, c2⟩ := HF.out.1.cells
  go_wp2_with fail
  refine (specAt_any c i a len cap l id _ (HF.out.lanes HS.out) (by omega)).mono ?_
  rintro e x4 ⟨rfl, hb4⟩
  have HF4 := (show Hid (FSt w x4 c i a len cap o c i A len C l) from HF.out.stays hb4)
  clear hb4 HF c0 c1 c2
  have hr := atL_range id l
  by_cases hk : atL id l < 0
  · have HR' : Hid (closeR c i l id = ((c, i, l), false)) := if_pos hk
    have hkd : decide (0 ≤ atL id l) = false := by simp; omega
    have hkf : (0 ≤ atL id l) = False := by simp; omega
    generalize atL id l = k at *
    clear hr
    obtain ⟨c0, c1, c2⟩ := HF4.out.1.cells
    obtain ⟨d0, d1, d2⟩ := HF4.out.2.2.1.cells
    go_wp2_with fail
    refine (specEnds_any c i a len cap l c i A len C l false w.heap.size _ (HF4.out.lanes HS.out) hl HF4.out.2.2.2.1 (by omega) HF4.out.2.2.2.2.1.size).mono ?_
    rintro e y1 ⟨⟨A1, C1, rfl, ho1⟩, hb1⟩
    obtain ⟨R, hR⟩ : ∃ R, endsF c i l c i l false = R := ⟨_, rfl⟩
    rw [hR] at ho1 ⊢
    have HR : Hid (endsF c i l c i l false = R) := hR
    clear hR
    obtain ⟨⟨rc, ri, rl⟩, rb⟩ := R
    dsimp only at ho1 ⊢
    obtain ⟨m, hm⟩ : ∃ m, rl.length = m := ⟨_, rfl⟩
    have HM : Hid (rl.length = m) := hm
    rw [hm] at ho1 ⊢
    clear hm
    have hx := (HF4.out.stays hb1).2.1
    obtain ⟨g0, g1, g2⟩ := hx.cells
    have f0 := hx.frozen 0
    have f1 := hx.frozen 1
    have f2 := hx.frozen 2
    have HEnd : Hid (OwnL (((y1.setCell ⟨w.heap.size + 1, 0, none⟩ (.int .i64 rc)).setCell ⟨w.heap.size + 1, 1, none⟩ (.int .i64 ri)).setCell ⟨w.heap.size + 1, 2, none⟩ (.slice A1 m C1)) w.heap.size A1 m C1 rl ∧ Below w.heap.size w (((y1.setCell ⟨w.heap.size + 1, 0, none⟩ (.int .i64 rc)).setCell ⟨w.heap.size + 1, 1, none⟩ (.int .i64 ri)).setCell ⟨w.heap.size + 1, 2, none⟩ (.slice A1 m C1))) := ⟨ownL_set3 ho1 (ho1.other (show y1.heap[w.heap.size + 1]? = _ from hx) (by decide)) _ _ _, below_set3 (HF4.out.stays hb1).2.2.2.2.1 (by omega) _ _ _⟩
    clear hx ho1 hb1 HF4
    go_wp2
    refine bodyPost_ret (v := .tuple #[.agg #[.int .i64 rc, .int .i64 ri, .slice A1 m C1], .bool rb]) (by simp [results, Try.f20, go_sem, g0, g1, g2]) rfl ?_
    have h := HM.out
    subst h
    have HR2 : ((c, i, l), false) = ((rc, ri, rl), rb) := by rw [← HR.out]; rfl
    exact ⟨by rw [HR'.out, HR2]; exact ⟨A1, C1, rfl, HEnd.out.1⟩, HEnd.out.2⟩
  obtain ⟨K, hK⟩ := Int.eq_ofNat_of_zero_le (show 0 ≤ atL id l by omega)
  have hKl : K < len := by have := HSl.out; omega
  have HR' : Hid (closeR c i l id = endsF c i l c i (l.take K ++ l.drop (K + 1)) true) := by
    show _ = _
    rw [closeR, if_neg hk, hK, Int.toNat_natCast]
  rw [hK]
  clear hk hr hK
  obtain ⟨b, off, rfl⟩ : ∃ b off, a = some ⟨b, off, none⟩ := by
    rcases HS.out.2.2 with h0 | ⟨b, off, e, _⟩
    · omega
    · exact ⟨b, off, e⟩
  have HK1 : Hid (l.take K ++ l.drop (K + 1) = l.take K ++ l.drop (K + 1)) := rfl
  have hKi : (K : Int) < (len : Int) := by omega
  have hK1 : ¬ (cap = K) := by omega
  obtain ⟨c0, c1, c2⟩ := HF4.out.1.cells
  obtain ⟨d0, d1, d2⟩ := HF4.out.2.2.1.cells
  go_upto_region 4 with fail
  have hsz : w.heap.size + 1 < x4.heap.size := HF4.out.2.1.lt
  have hox : o < x4.heap.size := HF4.out.2.2.1.lt
  have hoo : w.heap.size + 1 < o := HF4.out.2.2.2.2.2
  have HO1 : Hid ((x4.alloc (.cells #[] 43)).drew.ownsRow x4.heap.size 43 2 (.slice (some ⟨x4.heap.size, 0, none⟩) 0 0) 0 []) := World.ownsRow_lit x4 #[] 0 (Nat.le_refl _) (Nat.zero_le _) rfl
  have HB1 : Hid (Below x4.heap.size x4 (x4.alloc (.cells #[] 43)).drew) := ((Below.refl _ _).alloc (Nat.le_refl _) _).drew
  have HSb : Hid (∀ s ∈ l.take K ++ l.drop (K + 1), i64b s.1 ∧ i64b s.2) := fun s hs => HS.out.2.1 s (by
    rcases List.mem_append.1 hs with h | h
    · exact List.mem_of_mem_take h
    · exact List.mem_of_mem_drop h)
  have HSet : Hid (∀ (W : World) (g k : Nat), Below x4.heap.size x4 W → W.ownsRow x4.heap.size 43 2 (.slice (some ⟨g, 0, none⟩) (0 + K + (len - (K + 1))) k) (0 + K + (len - (K + 1))) ([] ++ laneCells (l.take K) ++ laneCells (l.drop (K + 1))) → FSt w (W.setCell ⟨o, 2, none⟩ (.slice (some ⟨g, 0, none⟩) (K + (len - (K + 1))) k)) c i (some ⟨b, off, none⟩) len cap o c i (some ⟨g, 0, none⟩) (K + (len - (K + 1))) k (l.take K ++ l.drop (K + 1))) := fun W g k hb ho => by
    rw [Nat.zero_add, List.nil_append, ← laneCells_append] at ho
    exact (HF4.out.stays hb).set2 ⟨own_low (base := x4.heap.size) ho (by omega), HSb.out⟩
  go_cut [] from 13 (fun W => ∃ g k, Hid (FSt w W c i (some ⟨b, off, none⟩) len cap o c i (some ⟨g, 0, none⟩) (K + (len - (K + 1))) k (l.take K ++ l.drop (K + 1))))
  case first =>
    have hw1 : IntKind.i64.wrap ((K : Int) + 1) = (K : Int) + 1 := IntWalk.i64_in _ (by constructor <;> omega)
    have i1 : (0 : Int) ≤ (K : Int) := by omega
    have i2 : (K : Int) ≤ (cap : Int) := by omega
    have i3 : (K : Int) + 1 ≤ (len : Int) := by omega
    have i4 : (0 : Int) ≤ (K : Int) + 1 := by omega
    have i5 : (len : Int) ≤ (cap : Int) := by omega
    have n1 : K ≤ cap := by omega
    have n2 : K + 1 ≤ len := by omega
    by_cases hcK : cap = K + 1
    case neg =>
      go_region_held3 (fun W => W.cell? ⟨w.heap.size, 2, none⟩ = some (.slice (some ⟨b, off, none⟩) len cap)) (first | assumption | (exact cell_kept3 (by omega) (by assumption)) | go_keep) (first
        | (refine step_append_got rfl (.tmp 20) (.tmp 25) 27 27 rfl x4.heap.size 43 i0 (.agg #[.int .i64 0, .int .i64 0]) 2 16 Try.underlying27 hi hz0 hz1 hz2 rfl (by decide) g1 (0 + K) k1 _ rfl hown1 _ (len - (K + 1)) (laneCells (l.drop (K + 1))) rfl (((hf1.lanes HS.out).drop (by omega)).src) (by unfold maxLen; omega) (by omega) hb1.size ?_; intro g2 k2 y2 hown2 hgrow2; have hb2 : Below x4.heap.size x4 y2 := hb1.grown hgrow2 hb1.size (fun k hk => by have := hown1.lt g1 rfl; injection hk with hk; omega); have hf2 := HF4.out.stays hb2; obtain ⟨m0, m1, m2⟩ := hf2.1.cells; obtain ⟨t0, t1, t2⟩ := hf2.2.2.1.cells; have tf := hf2.2.2.1.frozen 2)
        | (refine step_append_got rfl (.tmp 15) (.tmp 19) 27 27 rfl x4.heap.size 43 i0 (.agg #[.int .i64 0, .int .i64 0]) 2 16 Try.underlying27 hi hz0 hz1 hz2 rfl (by decide) x4.heap.size 0 0 _ rfl HO1.out _ K (laneCells (l.take K)) rfl ((((HF4.out.stays HB1.out).lanes HS.out).take (by omega)).src) (by unfold maxLen; omega) (by omega) (by simp) ?_; intro g1 k1 y1 hown1 hgrow1; have hb1 : Below x4.heap.size x4 y1 := HB1.out.grown hgrow1 HB1.out.size (fun k hk => by injection hk with hk; omega); have hf1 := HF4.out.stays hb1; obtain ⟨e0, e1, e2⟩ := hf1.1.cells)
        | fail)
      all_goals
        have HF5 := (show Hid (FSt w _ c i (some ⟨b, off, none⟩) len cap o c i (some ⟨g2, 0, none⟩) (K + (len - (K + 1))) k2 (l.take K ++ l.drop (K + 1))) from HSet.out y2 g2 k2 hb2 hown2)
        clear hown1 hown2 hgrow1 hgrow2 hb1 hb2 hf1 hf2 e0 e1 e2 m0 m1 m2 t0 t1 t2 tf
        go_wp2_with fail
        go_meet
        exact ⟨g2, k2, HF5⟩
    case pos =>
      have hlK : len = K + 1 := by omega
      subst hlK
      subst hcK
      have i6 : (K : Int) ≤ (K : Int) + 1 := by omega
      have n6 : K ≤ K + 1 := by omega
      have n7 : (K ≤ K + 1) = True := by simp
      have i7 : ((K : Int) ≤ (K : Int) + 1) = True := by simp; omega
      have HSet' : Hid (∀ (W : World) (g k : Nat), Below x4.heap.size x4 W → W.ownsRow x4.heap.size 43 2 (.slice (some ⟨g, 0, none⟩) (0 + K + 0) k) (0 + K + 0) ([] ++ laneCells (l.take K) ++ laneCells (l.drop (K + 1))) → FSt w (W.setCell ⟨o, 2, none⟩ (.slice (some ⟨g, 0, none⟩) K k)) c i (some ⟨b, off, none⟩) (K + 1) (K + 1) o c i (some ⟨g, 0, none⟩) (K + (K + 1 - (K + 1))) k (l.take K ++ l.drop (K + 1))) := fun W g k hb ho => by
        have h := HSet.out W g k hb (by rw [Nat.sub_self]; exact ho)
        rw [Nat.sub_self] at h ⊢
        exact h
      go_region_held3 (fun W => W.cell? ⟨w.heap.size, 2, none⟩ = some (.slice (some ⟨b, off, none⟩) (K + 1) (K + 1))) (first | assumption | (exact cell_kept3 (by omega) (by assumption)) | go_keep) (first
        | (refine step_append_got rfl (.tmp 20) (.tmp 25) 27 27 rfl x4.heap.size 43 i0 (.agg #[.int .i64 0, .int .i64 0]) 2 16 Try.underlying27 hi hz0 hz1 hz2 rfl (by decide) g1 (0 + K) k1 _ rfl hown1 _ 0 (laneCells (l.drop (K + 1))) rfl (((hf1.lanes HS.out).gone (Nat.le_refl _)).src) (by unfold maxLen; omega) (by omega) hb1.size ?_; intro g2 k2 y2 hown2 hgrow2; have hb2 : Below x4.heap.size x4 y2 := hb1.grown hgrow2 hb1.size (fun k hk => by have := hown1.lt g1 rfl; injection hk with hk; omega); have hf2 := HF4.out.stays hb2; obtain ⟨m0, m1, m2⟩ := hf2.1.cells; obtain ⟨t0, t1, t2⟩ := hf2.2.2.1.cells; have tf := hf2.2.2.1.frozen 2)
        | (refine step_append_got rfl (.tmp 15) (.tmp 19) 27 27 rfl x4.heap.size 43 i0 (.agg #[.int .i64 0, .int .i64 0]) 2 16 Try.underlying27 hi hz0 hz1 hz2 rfl (by decide) x4.heap.size 0 0 _ rfl HO1.out _ K (laneCells (l.take K)) rfl ((((HF4.out.stays HB1.out).lanes HS.out).take (by omega)).src) (by unfold maxLen; omega) (by omega) (by simp) ?_; intro g1 k1 y1 hown1 hgrow1; have hb1 : Below x4.heap.size x4 y1 := HB1.out.grown hgrow1 HB1.out.size (fun k hk => by injection hk with hk; omega); have hf1 := HF4.out.stays hb1; obtain ⟨e0, e1, e2⟩ := hf1.1.cells)
        | fail)
      all_goals
        have HF5 := (show Hid (FSt w _ c i (some ⟨b, off, none⟩) (K + 1) (K + 1) o c i (some ⟨g2, 0, none⟩) (K + (K + 1 - (K + 1))) k2 (l.take K ++ l.drop (K + 1))) from HSet'.out y2 g2 k2 hb2 hown2)
        clear hown1 hown2 hgrow1 hgrow2 hb1 hb2 hf1 hf2 e0 e1 e2 m0 m1 m2 t0 t1 t2 tf
        go_wp2_with fail
        go_meet
        exact ⟨g2, k2, HF5⟩
  case rest =>
  obtain ⟨g, k, HFc⟩ := hcut
  obtain ⟨x7, hx7⟩ : ∃ x7, wc = x7 := ⟨_, rfl⟩
  rw [hx7] at HFc ⊢
  have HF8 := (show Hid (FSt w x7 c i (some ⟨b, off, none⟩) len cap o c i (some ⟨g, 0, none⟩) (K + (len - (K + 1))) k (l.take K ++ l.drop (K + 1))) from HFc.out)
  clear hx7 HFc HSet HO1 HB1 HSb c0 c1 c2 d0 d1 d2 HF4
  obtain ⟨c0, c1, c2⟩ := HF8.out.1.cells
  obtain ⟨d0, d1, d2⟩ := HF8.out.2.2.1.cells
  have hnb : K + (len - (K + 1)) ≤ 1099511627776 := by omega
  generalize l.take K ++ l.drop (K + 1) = ol at *
  generalize K + (len - (K + 1)) = on at *
  go_wp2_with fail
  refine (specEnds_any c i (some ⟨b, off, none⟩) len cap l c i (some ⟨g, 0, none⟩) on k ol true w.heap.size _ (HF8.out.lanes HS.out) hl HF8.out.2.2.2.1 hnb HF8.out.2.2.2.2.1.size).mono ?_
  rintro e y1 ⟨⟨A1, C1, rfl, ho1⟩, hb1⟩
  obtain ⟨R, hR⟩ : ∃ R, endsF c i l c i ol true = R := ⟨_, rfl⟩
  rw [hR] at ho1 ⊢
  have HR : Hid (endsF c i l c i ol true = R) := hR
  clear hR
  obtain ⟨⟨rc, ri, rl⟩, rb⟩ := R
  dsimp only at ho1 ⊢
  obtain ⟨m, hm⟩ : ∃ m, rl.length = m := ⟨_, rfl⟩
  have HM : Hid (rl.length = m) := hm
  rw [hm] at ho1 ⊢
  clear hm
  have hx := (HF8.out.stays hb1).2.1
  obtain ⟨g0, g1, g2⟩ := hx.cells
  have f0 := hx.frozen 0
  have f1 := hx.frozen 1
  have f2 := hx.frozen 2
  have HEnd : Hid (OwnL (((y1.setCell ⟨w.heap.size + 1, 0, none⟩ (.int .i64 rc)).setCell ⟨w.heap.size + 1, 1, none⟩ (.int .i64 ri)).setCell ⟨w.heap.size + 1, 2, none⟩ (.slice A1 m C1)) w.heap.size A1 m C1 rl ∧ Below w.heap.size w (((y1.setCell ⟨w.heap.size + 1, 0, none⟩ (.int .i64 rc)).setCell ⟨w.heap.size + 1, 1, none⟩ (.int .i64 ri)).setCell ⟨w.heap.size + 1, 2, none⟩ (.slice A1 m C1))) := ⟨ownL_set3 ho1 (ho1.other (show y1.heap[w.heap.size + 1]? = _ from hx) (by decide)) _ _ _, below_set3 (HF8.out.stays hb1).2.2.2.2.1 (by omega) _ _ _⟩
  clear hx ho1 hb1 HF8
  go_wp2
  refine bodyPost_ret (v := .tuple #[.agg #[.int .i64 rc, .int .i64 ri, .slice A1 m C1], .bool rb]) (by simp [results, Try.f20, go_sem, g0, g1, g2]) rfl ?_
  have h := HM.out
  subst h
  exact ⟨by rw [HR'.out, HR.out]; exact ⟨A1, C1, rfl, HEnd.out.1⟩, HEnd.out.2⟩

end Go.Proofs.Ytkicfiacnpifkap
