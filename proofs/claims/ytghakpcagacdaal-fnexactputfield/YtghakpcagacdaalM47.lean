/- The law that PutField answers as the specification's: its walk. -/
import Derived.Test.YtghakpcagacdaalM41
import Derived.Test.YtghakpcagacdaalM46
import Derived.Deep.RegionWith
import Derived.Deep.RegionHeld3
import Derived.Deep.Cut
namespace Go.Proofs.Ytghakpcagacdaal
open Go.RowKit
set_option linter.unusedVariables false

theorem hidP {p : Prop} (h : p) : Hid p := h

set_option maxRecDepth 10000 in
set_option maxHeartbeats 12800000 in
theorem putFWalk (m : Int) (a0 : Option Addr) (len0 cap0 : Nat) (z0 : List Fld) (x y : ByteArray) (mode : Int) (w : World) (hl0 : len0 ≤ maxLen) (w0 : Flds w a0 len0 z0) (hxy : x.size ≤ maxLen ∧ y.size ≤ maxLen) :
    Calls Try.prog 5 #[.agg #[.int .i64 m, .slice a0 len0 cap0], .agg #[.string x, .string y], .int .i64 mode] w fun e w' => e = .returned (.bool true) ∧ Below w.heap.size w w' := by
  have HX : Hid (Flds w a0 len0 z0) := w0
  have hz0 : z0.length = len0 := w0.1
  clear w0
  obtain ⟨hx1, hy1⟩ := hxy
  obtain ⟨x0, hx0⟩ : ∃ x0, (w.alloc (.cells #[.int .i64 m, .slice a0 len0 cap0] 33)).alloc (.cells #[.string x, .string y] 35) = x0 := ⟨_, rfl⟩
  have HK0 : Hid (KP w x0 m a0 len0 cap0 x y) := by
    show KP _ _ _ _ _ _ _ _
    rw [← hx0]
    refine ⟨((Below.refl _ _).alloc (Nat.le_refl _) _).alloc (by simp) _, (Box2.new _ _ _ _).alloc _, ?_⟩
    have := Box2.new (w.alloc (.cells #[.int .i64 m, .slice a0 len0 cap0] 33)) 35 (.string x) (.string y)
    rwa [World.size_alloc] at this
  obtain ⟨c0, c1, _, _⟩ := HK0.out.2.1.cells
  go_enter Try.func5, Try.ntmps5
  go_wp2_with fail
  clear hx0
  refine (szTable_any m a0 len0 cap0 z0 1048576 x0 (HX.out.below HK0.out.1) (by omega) (by omega) hl0).mono ?_
  rintro e x1 ⟨⟨v, rfl, hv1, hv2⟩, hb1⟩
  have HK1 : Hid (KP w x1 m a0 len0 cap0 x y) := HK0.out.stays hb1
  have HV : Hid (0 ≤ v → v + (len0 + fldBytes z0 : Int) ≤ 1048576) := fun h => by have := hv2 h; omega
  clear hb1 hv2 HK0 c0 c1
  by_cases hneg : v < 0
  · go_wp2_with fail
    go_ret
    exact ⟨rfl, HK1.out.1⟩
  have hsv := HV.out (by omega)
  have hle : len0 ≤ 1048576 := by omega
  obtain ⟨c0, c1, _, _⟩ := HK1.out.2.2.cells
  go_wp2_with fail
  refine (szField_any x y v x1 hx1 hy1 (by omega) (by omega)).mono ?_
  rintro e x2 ⟨rfl, hb2⟩
  have HK2 : Hid (KP w x2 m a0 len0 cap0 x y) := HK1.out.stays hb2
  clear hb2 HK1 c0 c1 HV
  obtain ⟨v2, hv2⟩ : ∃ v2 : Int, (if v - x.size - y.size < 0 then -1 else v - x.size - y.size : Int) = v2 := ⟨_, rfl⟩
  rw [hv2]
  by_cases hneg2 : v2 < 0
  · go_wp2_with fail
    go_ret
    exact ⟨rfl, HK2.out.1⟩
  have hsz : len0 + (x.size + y.size) + fldBytes z0 ≤ 1048576 := by
    split at hv2
    · omega
    · omega
  clear hv2 hsv
  have hn2 : decide (v2 < 0) = false := by simp; omega
  have HT : Hid (∀ (X W : World), KP w X m a0 len0 cap0 x y → Below X.heap.size X W → Flds W a0 len0 z0 ∧ KP w W m a0 len0 cap0 x y) := fun X W h1 hW =>
    ⟨HX.out.below (h1.stays hW).1, h1.stays hW⟩
  obtain ⟨c0, c1, _, _⟩ := HK2.out.2.1.cells
  obtain ⟨c2, c3, _, _⟩ := HK2.out.2.2.cells
  go_upto_region 8 with fail
  go_cut [8, 9] from 18 (fun v8 v9 W => ∃ (b : Nat) (aw : Option Addr) (kw cw : Nat) (ys : List Fld) (qa : Option Addr) (qc : Nat) (q : List Int), v8 = .slice qa q.length qc ∧ v9 = .pointer (some ⟨b, 0, none⟩) ∧ Hid (PutAns m z0 x y mode q ys) ∧ Hid (Below x2.heap.size x2 W ∧ AP W x2.heap.size m b aw kw cw ys qa q.length qc q))
  case first =>
    as_aux_lemma =>
      have hlt2 : w.heap.size + 1 < x2.heap.size := HK2.out.2.2.lt
      have hlt2a : ¬ w.heap.size + 1 = x2.heap.size := by omega
      have hlt2b : ¬ w.heap.size = x2.heap.size := by omega
      have hlt2e : ¬ x2.heap.size = w.heap.size := by omega
      have hlt2f : ¬ x2.heap.size = w.heap.size + 1 := by omega
      go_region_held3 (fun W => W.cell? ⟨w.heap.size, 0, none⟩ = some (.int .i64 m) ∧ W.cell? ⟨w.heap.size, 1, none⟩ = some (.slice a0 len0 cap0) ∧ W.cell? ⟨w.heap.size + 1, 0, none⟩ = some (.string x) ∧ W.cell? ⟨w.heap.size + 1, 1, none⟩ = some (.string y)) (first | (refine ⟨?_, ?_, ?_, ?_⟩ <;> assumption) | (refine ⟨?_, ?_, ?_, ?_⟩ <;> (simp [go_sem, *]; done)) | go_keep) (first
        | (go_at_call 19; refine (specPutF_any m _ len0 len0 z0 x y mode _ (by first | exact hf1.below hb2' | exact (hf1.below hb2').below ((Below.refl _ _).alloc (Nat.le_refl _) _)) ⟨hx1, hy1⟩ hsz).mono ?_; rintro e y3 ⟨q, qa, qc, vw, kw, ys, rfl, hadd, hoq, how, hb3⟩; obtain ⟨aw, cw, rfl⟩ := how.shape
           have hb3' : Below y2.heap.size y2 y3 := (by first | exact hb3 | exact ((Below.refl _ _).alloc (Nat.le_refl _) _).trans (hb3.mono (by simp)))
           have hb13 : Below x2.heap.size x2 y3 := hb1'.trans ((hb2'.trans (hb3'.mono hb2'.size)).mono hb1'.size)
           obtain ⟨s0, s1, _, _⟩ := (HT.out x2 y3 HK2.out hb13).2.2.1.cells
           obtain ⟨s2, s3, _, _⟩ := (HT.out x2 y3 HK2.out hb13).2.2.2.cells
           have hlt3 : w.heap.size + 1 < y3.heap.size := (HT.out x2 y3 HK2.out hb13).2.2.2.lt
           have hlt3a : ¬ w.heap.size + 1 = y3.heap.size := (by omega)
           have hlt3b : ¬ w.heap.size = y3.heap.size := (by omega)
           have hlt3bx : ¬ y3.heap.size = w.heap.size := (by omega)
           have hlt3by : ¬ y3.heap.size = w.heap.size + 1 := (by omega)
           first
             | (have HPut := put_boxB hb13 HQ2.out.1 (HQ2.out.2.stays hb3) HQ2.out.2.lt how hoq m
                obtain ⟨q0, q1, q2, q3⟩ := (HQ2.out.2.stays hb3).cells
                have hnb : ¬ w.heap.size = x2.heap.size := hlt2b)
             | (have HPut := put_boxB hb13 (hb1'.trans (hb2'.mono hb1'.size)).size ((Box2.new y2 40 (.int .i64 0) (.slice none 0 0)).stays hb3) (Box2.new y2 40 (.int .i64 0) (.slice none 0 0)).lt how hoq m
                obtain ⟨q0, q1, q2, q3⟩ := ((Box2.new y2 40 (.int .i64 0) (.slice none 0 0)).stays hb3).cells)
             | (have HPut := put_newB hb13 (hb1'.trans (hb2'.mono hb1'.size)).size how hoq m)
             | fail)
        | (go_at_call 21; refine (toField_any x y _).mono ?_; rintro e y2 ⟨rfl, hb2⟩
           have hb2' : Below y1.heap.size y1 y2 := (by first | exact hb2 | exact ((Below.refl _ _).alloc (Nat.le_refl _) _).trans (hb2.mono (by simp)))
           have hb12 : Below x2.heap.size x2 y2 := hb1'.trans (hb2'.mono hb1'.size)
           obtain ⟨l0, l1, _, _⟩ := (HT.out x2 y2 HK2.out hb12).2.2.1.cells
           obtain ⟨l2, l3, _, _⟩ := (HT.out x2 y2 HK2.out hb12).2.2.2.cells
           have hlty : w.heap.size + 1 < y2.heap.size := (HT.out x2 y2 HK2.out hb12).2.2.2.lt
           have hltya : ¬ w.heap.size + 1 = y2.heap.size := (by omega)
           have hltyb : ¬ w.heap.size = y2.heap.size := (by omega)
           have hltybx : ¬ y2.heap.size = w.heap.size := (by omega)
           have hltyby : ¬ y2.heap.size = w.heap.size + 1 := (by omega)
           first
             | have HQ2 : Hid (x2.heap.size ≤ x2.heap.size ∧ Box2 y2 x2.heap.size 40 (.int .i64 0) (.slice none 0 0)) := ⟨Nat.le_refl _, HQ.out.2.stays hb2⟩
             | have HQ2 : Hid (x2.heap.size ≤ y1.heap.size ∧ Box2 y2 y1.heap.size 40 (.int .i64 0) (.slice none 0 0)) := ⟨hb1'.size, (Box2.new y1 40 (.int .i64 0) (.slice none 0 0)).stays hb2⟩
             | skip
             | fail)
        | (go_at_call 20; refine (toTable_any m a0 len0 cap0 z0 _ (HT.out x2 _ HK2.out (by first | exact (Below.refl _ _).drew | exact (Below.refl _ _).drew.alloc (Nat.le_refl _) _)).1 hle).mono ?_; rintro e y1 ⟨g1, rfl, hg1, hf1, hb1⟩
           have hb1' : Below x2.heap.size x2 y1 := (by first | exact (Below.refl x2.heap.size x2).drew.trans (hb1.mono (Nat.le_refl _)) | exact ((Below.refl x2.heap.size x2).drew.alloc (Nat.le_refl _) _).trans (hb1.mono (by simp)))
           first
             | have HQ : Hid (x2.heap.size ≤ x2.heap.size ∧ Box2 y1 x2.heap.size 40 (.int .i64 0) (.slice none 0 0)) := ⟨Nat.le_refl _, (Box2.new x2.drew 40 (.int .i64 0) (.slice none 0 0)).stays hb1⟩
             | skip
             | fail
           obtain ⟨k0, k1, _, _⟩ := (HT.out x2 y1 HK2.out hb1').2.2.1.cells
           obtain ⟨k2, k3, _, _⟩ := (HT.out x2 y1 HK2.out hb1').2.2.2.cells
           have hlt1 : w.heap.size + 1 < y1.heap.size := (HT.out x2 y1 HK2.out hb1').2.2.2.lt
           have hlt1a : ¬ w.heap.size + 1 = y1.heap.size := (by omega)
           have hlt1b : ¬ w.heap.size = y1.heap.size := (by omega)
           have hlt1bx : ¬ y1.heap.size = w.heap.size := (by omega)
           have hlt1by : ¬ y1.heap.size = w.heap.size + 1 := (by omega))
        | fail)
      all_goals
        have HFin : Hid (PutAns m z0 x y mode q ys) := hadd
        have HPutH := hidP HPut
        clear HPut hadd how hoq
        go_wp2_with fail
        go_meet
        exact ⟨_, aw, kw, cw, ys, qa, qc, q, rfl, rfl, HFin, HPutH⟩
  case rest =>
  obtain ⟨bw, aw, kw, cw, ys, qa, qc, q, rfl, rfl, HAns, HW⟩ := hcut
  clear c0 c1 c2 c3
  obtain ⟨x4, hx4⟩ : ∃ x4, wc = x4 := ⟨_, rfl⟩
  rw [hx4] at HW ⊢
  clear hx4
  obtain ⟨ql, hql0⟩ : ∃ ql, q.length = ql := ⟨_, rfl⟩
  have HQl : Hid (q.length = ql) := hql0
  have hkw : kw ≤ 1048577 := by
    have h1 := HAns.out.short.1
    have h2 := HW.out.2.2.1.len
    omega
  have hql : ql ≤ 1048600 := by have := HAns.out.short.2; omega
  rw [hql0] at HW ⊢
  clear hql0
  have HK4 : Hid (KP w x4 m a0 len0 cap0 x y) := HK2.out.stays HW.out.1
  have HA4 : Hid (AP x4 x2.heap.size m bw aw kw cw ys qa ql qc q) := HW.out.2
  have HLow : Hid (Low x4.heap.size bw aw qa ∧ w.heap.size + 1 < x4.heap.size) := ⟨HA4.out.low, HK4.out.2.2.lt⟩
  clear HW HK2
  obtain ⟨c0, c1, _, _⟩ := HK4.out.2.1.cells
  go_wp2_with fail
  refine (toTable_own m a0 len0 cap0 z0 x4 (HX.out.below HK4.out.1) hle).mono ?_
  rintro e x5 ⟨g5, rfl, hg5, ho5, hf5, hb5⟩
  have HK5 : Hid (KP w x5 m a0 len0 cap0 x y) := HK4.out.stays hb5
  have HA5 : Hid (AP x5 x2.heap.size m bw aw kw cw ys qa ql qc q) := HA4.out.stays hb5
  have HOx5 : Hid (OwnF x5 x4.heap.size (.slice (some ⟨g5, 0, none⟩) len0 len0) len0 z0) := ⟨ho5, HX.out.2.1⟩
  clear hb5 hf5 ho5 HK4 HA4 c0 c1
  have hg5lt : g5 < x5.heap.size := (HOx5.out.lt g5 rfl).2
  obtain ⟨x6, hx6⟩ : ∃ x6, x5.alloc (.cells #[.int .i64 m, .slice (some ⟨g5, 0, none⟩) len0 len0] 40) = x6 := ⟨_, rfl⟩
  have hb56 : Below x5.heap.size x5 x6 := by rw [← hx6]; exact (Below.refl _ _).alloc (Nat.le_refl _) _
  have HX6 : Hid (Box2 x6 x5.heap.size 40 (.int .i64 m) (.slice (some ⟨g5, 0, none⟩) len0 len0)) := by show Box2 _ _ _ _ _; rw [← hx6]; exact Box2.new _ _ _ _
  have HS6 : Hid (g5 < x6.heap.size ∧ x4.heap.size ≤ g5) := ⟨Nat.lt_of_lt_of_le hg5lt hb56.size, hg5⟩
  have HK6 : Hid (KP w x6 m a0 len0 cap0 x y) := HK5.out.stays hb56
  have HA6 : Hid (AP x6 x2.heap.size m bw aw kw cw ys qa ql qc q) := HA5.out.stays hb56
  have HOx6 : Hid (OwnF x6 x4.heap.size (.slice (some ⟨g5, 0, none⟩) len0 len0) len0 z0) := HOx5.out.stays hb56
  clear HK5 HA5 HOx5 hb56 hg5 hg5lt
  go_upto_region 10 with fail
  try rw [hx6]
  clear hx6
  generalize x5.heap.size = bx at *
  obtain ⟨c0, c1, _, _⟩ := HX6.out.cells
  obtain ⟨c2, c3, _, _⟩ := HK6.out.2.2.cells
  go_cut [11, 12] from 18 (fun v11 v12 W => ∃ (b : Nat) (ag : Option Addr) (kg cg : Nat) (yg : List Fld) (ga : Option Addr) (gc : Nat) (g : List Int), v11 = .slice ga g.length gc ∧ v12 = .pointer (some ⟨b, 0, none⟩) ∧ Hid (PutAns m z0 x y mode g yg) ∧ Hid (Below x6.heap.size x6 W ∧ AP W x6.heap.size m b ag kg cg yg ga g.length gc g))
  case first =>
    as_aux_lemma =>
      have hlt2 : bx < x6.heap.size := HX6.out.lt
      have hlt2' : w.heap.size + 1 < x6.heap.size := HK6.out.2.2.lt
      have hlt2a : ¬ bx = x6.heap.size := by omega
      have hlt2b : ¬ x6.heap.size = bx := by omega
      have hlt2c : ¬ w.heap.size + 1 = x6.heap.size := by omega
      have hlt2d : ¬ x6.heap.size = w.heap.size + 1 := by omega
      go_region_held3 (fun W => W.cell? ⟨bx, 0, none⟩ = some (.int .i64 m) ∧ W.cell? ⟨bx, 1, none⟩ = some (.slice (some ⟨g5, 0, none⟩) len0 len0) ∧ W.cell? ⟨w.heap.size + 1, 0, none⟩ = some (.string x) ∧ W.cell? ⟨w.heap.size + 1, 1, none⟩ = some (.string y)) (first | (refine ⟨?_, ?_, ?_, ?_⟩ <;> assumption) | (refine ⟨?_, ?_, ?_, ?_⟩ <;> (simp [go_sem, *]; done)) | go_keep) (first
        | (go_at_call 22; refine (implPutF_any m _ len0 len0 z0 x y mode _ (by first | exact (HOx6.out.stays hb2').flds | exact ((HOx6.out.stays hb2').stays ((Below.refl _ _).alloc (Nat.le_refl _) _)).flds) ⟨hx1, hy1⟩ hsz).mono ?_; rintro e y3 ⟨g, ga, gc, vg, kg, yg, rfl, hadd, hoq, hog, hb3⟩; obtain ⟨ag, cg, rfl⟩ := hog.shape
           have hb3' : Below y2.heap.size y2 y3 := (by first | exact hb3 | exact ((Below.refl _ _).alloc (Nat.le_refl _) _).trans (hb3.mono (by simp)))
           have hb13 : Below x6.heap.size x6 y3 := hb2'.trans (hb3'.mono hb2'.size)
           obtain ⟨s0, s1, _, _⟩ := (HX6.out.stays hb13).cells
           obtain ⟨s2, s3, _, _⟩ := (HK6.out.stays hb13).2.2.cells
           have hlt4 : w.heap.size + 1 < y3.heap.size := (HK6.out.stays hb13).2.2.lt
           have hlt4b : bx < y3.heap.size := (HX6.out.stays hb13).lt
           have hlt4c : ¬ w.heap.size + 1 = y3.heap.size := (by omega)
           have hlt4d : ¬ bx = y3.heap.size := (by omega)
           have hlt4e : ¬ y3.heap.size = bx := (by omega)
           have hlt4f : ¬ y3.heap.size = w.heap.size + 1 := (by omega)
           first
             | (have HPut := put_boxB hb13 HQ2.out.1 (HQ2.out.2.stays hb3) HQ2.out.2.lt hog hoq m
                obtain ⟨q0, q1, q2, q3⟩ := (HQ2.out.2.stays hb3).cells)
             | (have HPut := put_boxB hb13 hb2'.size ((Box2.new y2 40 (.int .i64 0) (.slice none 0 0)).stays hb3) (Box2.new y2 40 (.int .i64 0) (.slice none 0 0)).lt hog hoq m
                obtain ⟨q0, q1, q2, q3⟩ := ((Box2.new y2 40 (.int .i64 0) (.slice none 0 0)).stays hb3).cells)
             | (have HPut := put_newB hb13 hb2'.size hog hoq m)
             | fail)
        | (go_at_call 21; refine (toField_any x y _).mono ?_; rintro e y2 ⟨rfl, hb2⟩
           have hb2' : Below x6.heap.size x6 y2 := (by first | exact (Below.refl x6.heap.size x6).drew.trans (hb2.mono (Nat.le_refl _)) | exact ((Below.refl x6.heap.size x6).drew.alloc (Nat.le_refl _) _).trans (hb2.mono (by simp)))
           first
             | have HQ2 : Hid (x6.heap.size ≤ x6.heap.size ∧ Box2 y2 x6.heap.size 40 (.int .i64 0) (.slice none 0 0)) := ⟨Nat.le_refl _, (Box2.new x6.drew 40 (.int .i64 0) (.slice none 0 0)).stays hb2⟩
             | skip
             | fail
           obtain ⟨k0, k1, _, _⟩ := (HX6.out.stays hb2').cells
           obtain ⟨k2, k3, _, _⟩ := (HK6.out.stays hb2').2.2.cells
           have hlt3 : bx < y2.heap.size := (HX6.out.stays hb2').lt
           have hlt3' : w.heap.size + 1 < y2.heap.size := (HK6.out.stays hb2').2.2.lt
           have hlt3a : ¬ bx = y2.heap.size := (by omega)
           have hlt3b : ¬ w.heap.size + 1 = y2.heap.size := (by omega)
           have hlt3c : ¬ y2.heap.size = bx := (by omega)
           have hlt3d : ¬ y2.heap.size = w.heap.size + 1 := (by omega))
        | fail)
      all_goals
        have HFin : Hid (PutAns m z0 x y mode g yg) := hadd
        have HPutH := hidP HPut
        clear HPut hadd hog hoq
        go_wp2_with fail
        go_meet
        exact ⟨_, ag, kg, cg, yg, ga, gc, g, rfl, rfl, HFin, HPutH⟩
  case rest =>
  obtain ⟨bg, ag, kg, cg, yg, ga, gc, g, rfl, rfl, HAnsG, HG⟩ := hcut
  clear c0 c1 c2 c3
  obtain ⟨x8, hx8⟩ : ∃ x8, wc = x8 := ⟨_, rfl⟩
  rw [hx8] at HG ⊢
  clear hx8
  obtain ⟨rfl, rfl⟩ := HAnsG.out.one HAns.out
  rw [HQl.out] at HG ⊢
  obtain rfl : kg = kw := by rw [← HG.out.2.2.1.len, HA6.out.2.1.len]
  have hb68 := HG.out.1
  have HK8 : Hid (KP w x8 m a0 len0 cap0 x y) := HK6.out.stays hb68
  have HA8 : Hid (AP x8 x2.heap.size m bw aw kg cw yg qa ql qc g) := HA6.out.stays hb68
  have HX8 : Hid (Box2 x8 bx 40 (.int .i64 m) (.slice (some ⟨g5, 0, none⟩) len0 len0)) := HX6.out.stays hb68
  have HOx8 : Hid (OwnF x8 x4.heap.size (.slice (some ⟨g5, 0, none⟩) len0 len0) len0 z0) := HOx6.out.stays hb68
  have HG8 : Hid (AP x8 x6.heap.size m bg ag kg cg yg ga ql gc g) := HG.out.2
  have hbg : Hid (bg ≠ g5) := fun e => own_other' HOx8.out.1 HG8.out.1 (by decide) (by rw [e]; rfl)
  clear hb68 HG HK6 HA6 HX6 HOx6 HAnsG
  go_wp2_with fail
  refine (eqByteS_same ga qa ql gc qc g x8 HG8.out.2.2.seg HA8.out.2.2.seg (by omega)).mono ?_
  rintro e x8b ⟨rfl, hst⟩
  have hb8b : Below x8.heap.size x8 x8b := Still.below hst (Below.refl _ _)
  have HAb : Hid (AP x8b x2.heap.size m bw aw kg cw yg qa ql qc g ∧ AP x8b x6.heap.size m bg ag kg cg yg ga ql gc g) := ⟨HA8.out.stays hb8b, HG8.out.stays hb8b⟩
  have HBb : Hid (Below x8.heap.size x8 x8b) := hb8b
  clear hst hb8b
  obtain ⟨c0, c1, _, _⟩ := HAb.out.1.1.cells
  obtain ⟨c2, c3, _, _⟩ := HAb.out.2.1.cells
  go_wp2_with fail
  refine (eqTable_same m _ _ kg _ _ yg x8b HAb.out.2.2.1.flds HAb.out.1.2.1.flds (by omega)).mono ?_
  rintro e x9 ⟨rfl, hb9⟩
  have HU : Hid (∀ W, Below x9.heap.size x9 W → KP w W m a0 len0 cap0 x y ∧ AP W x2.heap.size m bw aw kg cw yg qa ql qc g ∧ AP W x6.heap.size m bg ag kg cg yg ga ql gc g ∧ Box2 W bx 40 (.int .i64 m) (.slice (some ⟨g5, 0, none⟩) len0 len0) ∧ OwnF W x4.heap.size (.slice (some ⟨g5, 0, none⟩) len0 len0) len0 z0 ∧ Flds W a0 len0 z0) := by
    intro W hW
    have hb8 : Below x8.heap.size x8 x9 := HBb.out.trans (hb9.mono HBb.out.size)
    have hb : Below x8.heap.size x8 W := hb8.trans (hW.mono hb8.size)
    have hk := HK8.out.stays hb
    exact ⟨hk, HA8.out.stays hb, HG8.out.stays hb, HX8.out.stays hb, HOx8.out.stays hb, HX.out.below hk.1⟩
  clear HK8 HA8 HX8 HG8 HOx8 HAb HBb c0 c1 c2 c3 hb9
  obtain ⟨c0, c1, _, _⟩ := (HU.out x9 (Below.refl _ _)).1.2.1.cells
  obtain ⟨c2, c3, _, _⟩ := (HU.out x9 (Below.refl _ _)).2.2.2.1.cells
  go_upto_region 13 with fail
  go_cut [61] from 18 (fun v61 W => v61 = .bool false ∧ Hid (Below x9.heap.size x9 W))
  case first =>
    as_aux_lemma =>
      go_region_with (first
        | (go_at_call 20; refine (toTable_any m a0 len0 cap0 z0 _ (HU.out _ (Below.refl _ _).drew).2.2.2.2.2 hle).mono ?_; rintro e y1 ⟨g6, rfl, hg6, hf6, hb6⟩; have hb6' : Below x9.heap.size x9 y1 := (Below.refl x9.heap.size x9).drew.trans (hb6.mono (Nat.le_refl _)); obtain ⟨k0, k1, _, _⟩ := (HU.out _ hb6').2.2.2.1.cells)
        | (go_at_call 23; refine (eqTable_same m _ _ len0 len0 len0 z0 _ (HU.out _ hb6').2.2.2.2.1.flds hf6 (by omega)).mono ?_; rintro e y2 ⟨rfl, hb7⟩))
      all_goals
        have HB92 : Hid (Below x9.heap.size x9 y2) := by
          show Below _ _ _
          first
            | exact hb6'.trans (hb7.mono hb6'.size)
            | exact hb6'.drew.trans (hb7.mono hb6'.size)
        clear hb7 hb6 hb6' hf6 hg6 k0 k1
        go_wp2_with fail
        go_meet
        exact ⟨rfl, HB92⟩
  case rest =>
  obtain ⟨rfl, HBc⟩ := hcut
  clear c0 c1 c2 c3
  obtain ⟨u1, u2, u3, u4, u5, u6⟩ := HU.out wc HBc.out
  obtain ⟨c2, c3, _, _⟩ := u4.cells
  have HC : Hid (KP w wc m a0 len0 cap0 x y ∧ AP wc x2.heap.size m bw aw kg cw yg qa ql qc g ∧ AP wc x6.heap.size m bg ag kg cg yg ga ql gc g) := ⟨u1, u2, u3⟩
  have HOx : Hid (OwnF wc x4.heap.size (.slice (some ⟨g5, 0, none⟩) len0 len0) len0 z0) := u5
  clear u1 u2 u3 u4 u5 u6 HU HBc
  go_wp2_with fail
  refine (markT_any x4.heap.size m (some ⟨g5, 0, none⟩) len0 len0 z0 wc HOx.out (by omega)).mono ?_
  rintro e z1 ⟨rfl, _, hgr⟩
  have hgr' : wc.grownBy z1 (some g5) := hgr
  have HC1 : Hid (KP w z1 m a0 len0 cap0 x y ∧ AP z1 x2.heap.size m bw aw kg cw yg qa ql qc g ∧ AP z1 x6.heap.size m bg ag kg cg yg ga ql gc g) := by
    obtain ⟨u1, u2, u3⟩ := HC.out
    have s1 := HS6.out
    have s2 := HLow.out.2
    have s4 := hbg.out
    refine ⟨u1.grown hgr' (fun k e => by injection e with e; omega), u2.above HLow.out.1 hgr' (fun k e => by injection e with e; omega), u3.grown hgr' (fun e => by injection e with e; omega) (fun k e e2 => ?_) (fun k e e2 => ?_)⟩
    · have := (u3.2.1.lt k (by rw [ownBlock_slice]; exact e2)).1
      injection e with e
      omega
    · have := (u3.2.2.lt k e2).1
      injection e with e
      omega
  clear hgr hgr' HC HOx c2 c3
  have hp1 : ¬ ((1 + 2 * len0 : Nat) : Int) < 0 := by omega
  have hp1d : decide (((1 + 2 * len0 : Nat) : Int) < 0) = false := by simp; omega
  generalize ((1 + 2 * len0 : Nat) : Int) = q1 at *
  go_wp2_with fail
  refine (eqByteS_same ga qa ql gc qc g z1 HC1.out.2.2.2.2.seg HC1.out.2.1.2.2.seg (by omega)).mono ?_
  rintro e z1b ⟨rfl, hst⟩
  have hb8b : Below z1.heap.size z1 z1b := Still.below hst (Below.refl _ _)
  have HC1b : Hid (KP w z1b m a0 len0 cap0 x y ∧ AP z1b x2.heap.size m bw aw kg cw yg qa ql qc g ∧ AP z1b x6.heap.size m bg ag kg cg yg ga ql gc g) := ⟨HC1.out.1.stays hb8b, HC1.out.2.1.stays hb8b, HC1.out.2.2.stays hb8b⟩
  clear hst hb8b HC1
  obtain ⟨c0, c1, _, _⟩ := HC1b.out.2.1.1.cells
  obtain ⟨c2, c3, _, _⟩ := HC1b.out.2.2.1.cells
  go_wp2_with fail
  refine (eqTable_same m _ _ kg _ _ yg z1b HC1b.out.2.2.2.1.flds HC1b.out.2.1.2.1.flds (by omega)).mono ?_
  rintro e z2 ⟨rfl, hb2⟩
  have HC2 : Hid (KP w z2 m a0 len0 cap0 x y ∧ AP z2 x2.heap.size m bw aw kg cw yg qa ql qc g ∧ AP z2 x6.heap.size m bg ag kg cg yg ga ql gc g) := ⟨HC1b.out.1.stays hb2, HC1b.out.2.1.stays hb2, HC1b.out.2.2.stays hb2⟩
  clear hb2 HC1b c0 c1 c2 c3
  go_wp2_with fail
  refine (mark_one x6.heap.size ga ql gc g z2 HC2.out.2.2.2.2 (by omega)).mono ?_
  rintro e z3 ⟨rfl, hmk, hon⟩
  have hgr : z2.grownBy z3 (ga.map (·.block)) := hon
  have HC3 : Hid (KP w z3 m a0 len0 cap0 x y ∧ AP z3 x2.heap.size m bw aw kg cw yg qa ql qc g ∧ AP z3 x6.heap.size m bg ag kg cg yg ga ql gc (marks 1 ql)) := by
    obtain ⟨u1, u2, u3⟩ := HC2.out
    have s1 := HS6.out
    have s2 := HLow.out.2
    refine ⟨u1.grown hgr (fun k e => by have := (u3.2.2.lt k e).1; omega), u2.above HLow.out.1 hgr (fun k e => by have := (u3.2.2.lt k e).1; omega), u3.1.grown hgr ?_, ownF_kept u3.2.1 hgr (fun k e => ?_), hmk⟩
    · have := own_other' u3.2.2.1 u3.1 (by decide)
      rwa [ownBlock_slice] at this
    · have := rows_apart u3.2.2.1 u3.2.1.1 (by decide) k (by rw [ownBlock_slice]; exact e)
      rwa [ownBlock_slice] at this
  clear hmk hon hgr HC2
  obtain ⟨k1, hk1⟩ : ∃ k1, 1 + ql = k1 := ⟨_, rfl⟩
  have hk1b : k1 ≤ 1048601 := by omega
  have HHB : Hid (∀ W : World, Owns W x6.heap.size ga ql gc (marks 1 ql) → Calls Try.prog 14 #[.slice ga ql gc, .int .i64 1] W fun e w' => e = .returned (.int .i64 (k1 : Int)) ∧ w' = W) := fun W h => by
    rw [← hk1]
    exact held_one x6.heap.size ga ql gc W h (by omega)
  rw [hk1]
  clear hk1
  obtain ⟨c2, c3, _, _⟩ := HC3.out.2.2.1.cells
  go_wp2_with fail
  refine (markTk_any x6.heap.size m ag kg cg k1 yg z3 HC3.out.2.2.2.1 (by omega) (by omega)).mono ?_
  rintro e z4 ⟨rfl, hmk, hgr⟩
  have HC4 : Hid (KP w z4 m a0 len0 cap0 x y ∧ AP z4 x2.heap.size m bw aw kg cw yg qa ql qc g ∧ AP z4 x6.heap.size m bg ag kg cg (marksF k1 kg) ga ql gc (marks 1 ql)) := by
    obtain ⟨u1, u2, u3⟩ := HC3.out
    have s1 := HS6.out
    have s2 := HLow.out.2
    have hlo : ∀ k, ag.map (·.block) = some k → x6.heap.size ≤ k := fun k e => (u3.2.1.lt k (by rw [ownBlock_slice]; exact e)).1
    refine ⟨u1.grown hgr (fun k e => by have := hlo k e; omega), u2.above HLow.out.1 hgr (fun k e => by have := hlo k e; omega), u3.1.grown hgr ?_, hmk, owns_kept u3.2.2 hgr (fun k e => ?_)⟩
    · have := own_other' u3.2.1.1 u3.1 (by decide)
      rwa [ownBlock_slice] at this
    · have := rows_apart u3.2.1.1 u3.2.2.1 (by decide) k (by rw [ownBlock_slice]; exact e)
      rwa [ownBlock_slice] at this
  clear hmk hgr HC3 c2 c3
  obtain ⟨k2, hk2⟩ : ∃ k2, k1 + 2 * kg = k2 := ⟨_, rfl⟩
  have HHT : Hid (∀ W : World, Flds W ag kg (marksF k1 kg) → Calls Try.prog 25 #[.agg #[.int .i64 m, .slice ag kg cg], .int .i64 (k1 : Int)] W fun e w' => e = .returned (.int .i64 (k2 : Int)) ∧ Below W.heap.size W w') := fun W h => by
    rw [← hk2]
    exact heldTk_any m ag kg cg k1 W h (by omega) (by omega)
  rw [hk2]
  clear hk2
  have hp2 : ¬ (k1 : Int) < 0 := by omega
  have hp2d : decide ((k1 : Int) < 0) = false := by simp
  have hp3 : ¬ (k2 : Int) < 0 := by omega
  have hp3d : decide ((k2 : Int) < 0) = false := by simp
  have hp3e : ((k2 : Int) != (k2 : Int)) = false := by simp
  go_wp2_with fail
  refine (HHB.out z4 HC4.out.2.2.2.2).mono ?_
  rintro e z5 ⟨rfl, rfl⟩
  obtain ⟨c2, c3, _, _⟩ := HC4.out.2.2.1.cells
  go_wp2_with fail
  refine (HHT.out z5 HC4.out.2.2.2.1.flds).mono ?_
  rintro e z6 ⟨rfl, hb6⟩
  have HC6 : Hid (KP w z6 m a0 len0 cap0 x y ∧ AP z6 x2.heap.size m bw aw kg cw yg qa ql qc g ∧ AP z6 x6.heap.size m bg ag kg cg (marksF k1 kg) ga ql gc (marks 1 ql)) := ⟨HC4.out.1.stays hb6, HC4.out.2.1.stays hb6, HC4.out.2.2.stays hb6⟩
  have HK6 : Hid (KP w z6 m a0 len0 cap0 x y) := HC6.out.1
  clear hb6 HC4 c2 c3
  obtain ⟨c0, c1, _, _⟩ := HK6.out.2.1.cells
  obtain ⟨c2, c3, _, _⟩ := HK6.out.2.2.cells
  go_upto_region 31 with fail
  go_cut [16, 17] from 18 (fun v16 v17 W => ∃ (b : Nat) (aw : Option Addr) (kw cw : Nat) (ys : List Fld) (qa : Option Addr) (qc : Nat) (q : List Int), v16 = .slice qa q.length qc ∧ v17 = .pointer (some ⟨b, 0, none⟩) ∧ Hid (PutAns m z0 x y mode q ys) ∧ Hid (Below z6.heap.size z6 W ∧ AP W z6.heap.size m b aw kw cw ys qa q.length qc q))
  case first =>
    as_aux_lemma =>
      have hlt2 : w.heap.size + 1 < z6.heap.size := HK6.out.2.2.lt
      have hlt2a : ¬ w.heap.size + 1 = z6.heap.size := by omega
      have hlt2b : ¬ w.heap.size = z6.heap.size := by omega
      have hlt2e : ¬ z6.heap.size = w.heap.size := by omega
      have hlt2f : ¬ z6.heap.size = w.heap.size + 1 := by omega
      go_region_held3 (fun W => W.cell? ⟨w.heap.size, 0, none⟩ = some (.int .i64 m) ∧ W.cell? ⟨w.heap.size, 1, none⟩ = some (.slice a0 len0 cap0) ∧ W.cell? ⟨w.heap.size + 1, 0, none⟩ = some (.string x) ∧ W.cell? ⟨w.heap.size + 1, 1, none⟩ = some (.string y)) (first | (refine ⟨?_, ?_, ?_, ?_⟩ <;> assumption) | (refine ⟨?_, ?_, ?_, ?_⟩ <;> (simp [go_sem, *]; done)) | go_keep) (first
        | (go_at_call 22; refine (implPutF_any m _ len0 len0 z0 x y mode _ (by first | exact hf1.below hb2' | exact (hf1.below hb2').below ((Below.refl _ _).alloc (Nat.le_refl _) _)) ⟨hx1, hy1⟩ hsz).mono ?_; rintro e y3 ⟨q, qa, qc, vw, kw, ys, rfl, hadd, hoq, how, hb3⟩; obtain ⟨aw, cw, rfl⟩ := how.shape
           have hb3' : Below y2.heap.size y2 y3 := (by first | exact hb3 | exact ((Below.refl _ _).alloc (Nat.le_refl _) _).trans (hb3.mono (by simp)))
           have hb13 : Below z6.heap.size z6 y3 := hb1'.trans ((hb2'.trans (hb3'.mono hb2'.size)).mono hb1'.size)
           obtain ⟨s0, s1, _, _⟩ := (HT.out z6 y3 HK6.out hb13).2.2.1.cells
           obtain ⟨s2, s3, _, _⟩ := (HT.out z6 y3 HK6.out hb13).2.2.2.cells
           have hlt3 : w.heap.size + 1 < y3.heap.size := (HT.out z6 y3 HK6.out hb13).2.2.2.lt
           have hlt3a : ¬ w.heap.size + 1 = y3.heap.size := (by omega)
           have hlt3b : ¬ w.heap.size = y3.heap.size := (by omega)
           have hlt3bx : ¬ y3.heap.size = w.heap.size := (by omega)
           have hlt3by : ¬ y3.heap.size = w.heap.size + 1 := (by omega)
           first
             | (have HPut := put_boxB hb13 HQ2.out.1 (HQ2.out.2.stays hb3) HQ2.out.2.lt how hoq m
                obtain ⟨q0, q1, q2, q3⟩ := (HQ2.out.2.stays hb3).cells
                have hnb : ¬ w.heap.size = z6.heap.size := hlt2b)
             | (have HPut := put_boxB hb13 (hb1'.trans (hb2'.mono hb1'.size)).size ((Box2.new y2 40 (.int .i64 0) (.slice none 0 0)).stays hb3) (Box2.new y2 40 (.int .i64 0) (.slice none 0 0)).lt how hoq m
                obtain ⟨q0, q1, q2, q3⟩ := ((Box2.new y2 40 (.int .i64 0) (.slice none 0 0)).stays hb3).cells)
             | (have HPut := put_newB hb13 (hb1'.trans (hb2'.mono hb1'.size)).size how hoq m)
             | fail)
        | (go_at_call 21; refine (toField_any x y _).mono ?_; rintro e y2 ⟨rfl, hb2⟩
           have hb2' : Below y1.heap.size y1 y2 := (by first | exact hb2 | exact ((Below.refl _ _).alloc (Nat.le_refl _) _).trans (hb2.mono (by simp)))
           have hb12 : Below z6.heap.size z6 y2 := hb1'.trans (hb2'.mono hb1'.size)
           obtain ⟨l0, l1, _, _⟩ := (HT.out z6 y2 HK6.out hb12).2.2.1.cells
           obtain ⟨l2, l3, _, _⟩ := (HT.out z6 y2 HK6.out hb12).2.2.2.cells
           have hlty : w.heap.size + 1 < y2.heap.size := (HT.out z6 y2 HK6.out hb12).2.2.2.lt
           have hltya : ¬ w.heap.size + 1 = y2.heap.size := (by omega)
           have hltyb : ¬ w.heap.size = y2.heap.size := (by omega)
           have hltybx : ¬ y2.heap.size = w.heap.size := (by omega)
           have hltyby : ¬ y2.heap.size = w.heap.size + 1 := (by omega)
           first
             | have HQ2 : Hid (z6.heap.size ≤ z6.heap.size ∧ Box2 y2 z6.heap.size 40 (.int .i64 0) (.slice none 0 0)) := ⟨Nat.le_refl _, HQ.out.2.stays hb2⟩
             | have HQ2 : Hid (z6.heap.size ≤ y1.heap.size ∧ Box2 y2 y1.heap.size 40 (.int .i64 0) (.slice none 0 0)) := ⟨hb1'.size, (Box2.new y1 40 (.int .i64 0) (.slice none 0 0)).stays hb2⟩
             | skip
             | fail)
        | (go_at_call 20; refine (toTable_any m a0 len0 cap0 z0 _ (HT.out z6 _ HK6.out (by first | exact (Below.refl _ _).drew | exact (Below.refl _ _).drew.alloc (Nat.le_refl _) _)).1 hle).mono ?_; rintro e y1 ⟨g1, rfl, hg1, hf1, hb1⟩
           have hb1' : Below z6.heap.size z6 y1 := (by first | exact (Below.refl z6.heap.size z6).drew.trans (hb1.mono (Nat.le_refl _)) | exact ((Below.refl z6.heap.size z6).drew.alloc (Nat.le_refl _) _).trans (hb1.mono (by simp)))
           first
             | have HQ : Hid (z6.heap.size ≤ z6.heap.size ∧ Box2 y1 z6.heap.size 40 (.int .i64 0) (.slice none 0 0)) := ⟨Nat.le_refl _, (Box2.new z6.drew 40 (.int .i64 0) (.slice none 0 0)).stays hb1⟩
             | skip
             | fail
           obtain ⟨k0, k1, _, _⟩ := (HT.out z6 y1 HK6.out hb1').2.2.1.cells
           obtain ⟨k2, k3, _, _⟩ := (HT.out z6 y1 HK6.out hb1').2.2.2.cells
           have hlt1 : w.heap.size + 1 < y1.heap.size := (HT.out z6 y1 HK6.out hb1').2.2.2.lt
           have hlt1a : ¬ w.heap.size + 1 = y1.heap.size := (by omega)
           have hlt1b : ¬ w.heap.size = y1.heap.size := (by omega)
           have hlt1bx : ¬ y1.heap.size = w.heap.size := (by omega)
           have hlt1by : ¬ y1.heap.size = w.heap.size + 1 := (by omega))
        | fail)
      all_goals
        have HFin : Hid (PutAns m z0 x y mode q ys) := hadd
        have HPutH := hidP HPut
        clear HPut hadd how hoq
        go_wp2_with fail
        go_meet
        exact ⟨_, aw, kw, cw, ys, qa, qc, q, rfl, rfl, HFin, HPutH⟩
  case rest =>
  obtain ⟨bh, ah, kh, ch, yh, ha, hc, h, rfl, rfl, HAnsH, HH⟩ := hcut
  clear c0 c1 c2 c3
  obtain ⟨rfl, rfl⟩ := HAnsH.out.one HAns.out
  rw [HQl.out] at HH ⊢
  obtain rfl : kh = kg := by rw [← HH.out.2.2.1.len, HC6.out.2.1.2.1.len]
  have hb67 := HH.out.1
  have HC7 : Hid (KP w wc m a0 len0 cap0 x y ∧ AP wc x2.heap.size m bw aw kh cw yh qa ql qc h ∧ AP wc x6.heap.size m bg ag kh cg (marksF k1 kh) ga ql gc (marks 1 ql) ∧ AP wc z6.heap.size m bh ah kh ch yh ha ql hc h) := ⟨HC6.out.1.stays hb67, HC6.out.2.1.stays hb67, HC6.out.2.2.stays hb67, HH.out.2⟩
  clear hb67 HH HAnsH HC6 HK6
  go_wp2_with fail
  refine (eqByteS_same ha qa ql hc qc h wc HC7.out.2.2.2.2.2.seg HC7.out.2.1.2.2.seg (by omega)).mono ?_
  rintro e z8 ⟨rfl, hst⟩
  have hb8 : Below wc.heap.size wc z8 := Still.below hst (Below.refl _ _)
  have HC8 : Hid (KP w z8 m a0 len0 cap0 x y ∧ AP z8 x2.heap.size m bw aw kh cw yh qa ql qc h ∧ AP z8 x6.heap.size m bg ag kh cg (marksF k1 kh) ga ql gc (marks 1 ql) ∧ AP z8 z6.heap.size m bh ah kh ch yh ha ql hc h) := ⟨HC7.out.1.stays hb8, HC7.out.2.1.stays hb8, HC7.out.2.2.1.stays hb8, HC7.out.2.2.2.stays hb8⟩
  clear hst hb8 HC7
  obtain ⟨c0, c1, _, _⟩ := HC8.out.2.1.1.cells
  obtain ⟨c2, c3, _, _⟩ := HC8.out.2.2.2.1.cells
  go_wp2_with fail
  refine (eqTable_same m _ _ kh _ _ yh z8 HC8.out.2.2.2.2.1.flds HC8.out.2.1.2.1.flds (by omega)).mono ?_
  rintro e z9 ⟨rfl, hb9⟩
  have HC9 : Hid (KP w z9 m a0 len0 cap0 x y ∧ AP z9 x6.heap.size m bg ag kh cg (marksF k1 kh) ga ql gc (marks 1 ql)) := ⟨HC8.out.1.stays hb9, HC8.out.2.2.1.stays hb9⟩
  clear hb9 HC8 c0 c1 c2 c3
  go_wp2_with fail
  refine (HHB.out z9 HC9.out.2.2.2).mono ?_
  rintro e z10 ⟨rfl, rfl⟩
  obtain ⟨c2, c3, _, _⟩ := HC9.out.2.1.cells
  go_wp2_with fail
  refine (HHT.out z10 HC9.out.2.2.1.flds).mono ?_
  rintro e z11 ⟨rfl, hb11⟩
  have HB11 : Hid (Below w.heap.size w z11) := (HC9.out.1.stays hb11).1
  clear hb11 HC9 c2 c3
  go_wp2_with fail
  go_ret
  exact ⟨rfl, HB11.out⟩

end Go.Proofs.Ytghakpcagacdaal
