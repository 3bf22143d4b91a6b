/- The law that PutFields answers as the specification's: its walk. -/
import Derived.Test.YtghakpcagacdaalL02
import Derived.Test.YtghakpcagacdaalL03
import Derived.Test.YtghakpcagacdaalM46
import Derived.Deep.RegionWith
import Derived.Deep.Cut
namespace Go.Proofs.Ytghakpcagacdaal
open Go.RowKit
set_option linter.unusedVariables false

/-- What the call was given, in a variable of the law's. -/
def KS (w W : World) (m : Int) (a0 : Option Addr) (len0 cap0 : Nat) : Prop :=
  Below w.heap.size w W ∧ Box2 W w.heap.size 33 (.int .i64 m) (.slice a0 len0 cap0)

theorem KS.stays {w W W' : World} {m : Int} {a0 : Option Addr} {len0 cap0 : Nat} (h : KS w W m a0 len0 cap0) (hb : Below W.heap.size W W') : KS w W' m a0 len0 cap0 :=
  ⟨h.1.trans (hb.mono h.1.size), h.2.stays hb⟩

theorem KS.grown {w W W' : World} {m : Int} {a0 : Option Addr} {len0 cap0 : Nat} {r : Option Nat} (h : KS w W m a0 len0 cap0) (hg : W.grownBy W' r) (hr : ∀ k, r = some k → w.heap.size < k) : KS w W' m a0 len0 cap0 :=
  ⟨h.1.grown hg h.1.size (fun k e => by have := hr k e; omega), h.2.grown hg (fun e => by have := hr _ e; omega)⟩

set_option maxRecDepth 10000 in
set_option maxHeartbeats 12800000 in
theorem putsWalk (m : Int) (a0 : Option Addr) (len0 cap0 : Nat) (z0 : List Fld) (b0 : Option Addr) (n0 d0 : Nat) (L : List Fld) (w : World) (hl0 : len0 ≤ maxLen) (w0 : Flds w a0 len0 z0) (hl1 : n0 ≤ maxLen) (w1 : Flds w b0 n0 L) :
    Calls Try.prog 6 #[.agg #[.int .i64 m, .slice a0 len0 cap0], .slice b0 n0 d0] w fun e w' => e = .returned (.bool true) ∧ Below w.heap.size w w' := by
  have HX : Hid (Flds w a0 len0 z0) := w0
  have HL : Hid (Flds w b0 n0 L) := w1
  have hz0 : z0.length = len0 := w0.1
  have hL0 : L.length = n0 := w1.1
  clear w0 w1
  obtain ⟨x0, hx0⟩ : ∃ x0, w.alloc (.cells #[.int .i64 m, .slice a0 len0 cap0] 33) = x0 := ⟨_, rfl⟩
  have HK0 : Hid (KS w x0 m a0 len0 cap0) := by
    show KS _ _ _ _ _ _
    rw [← hx0]
    exact ⟨(Below.refl _ _).alloc (Nat.le_refl _) _, Box2.new _ _ _ _⟩
  obtain ⟨c0, c1, _, _⟩ := HK0.out.2.cells
  go_enter Try.func6, Try.ntmps6
  go_wp2_with fail
  clear hx0
  refine (szTable_any m a0 len0 cap0 z0 1048576 x0 (HX.out.below HK0.out.1) (by omega) (by omega) hl0).mono ?_
  rintro e x1 ⟨⟨v, rfl, hv1, hv2⟩, hb1⟩
  have HK1 : Hid (KS w x1 m a0 len0 cap0) := HK0.out.stays hb1
  have HV : Hid (0 ≤ v → v + (len0 + fldBytes z0 : Int) ≤ 1048576) := fun h => by have := hv2 h; omega
  clear hb1 hv2 HK0 c0 c1
  by_cases hneg : v < 0
  · go_wp2_with fail
    go_ret
    exact ⟨rfl, HK1.out.1⟩
  have hsv := HV.out (by omega)
  have hle : len0 ≤ 1048576 := by omega
  have hnegd : decide (v < 0) = false := by simp; omega
  go_wp2_with fail
  refine (szFieldS_any b0 n0 d0 L v x1 (HL.out.below HK1.out.1) (by omega) (by omega) hl1).mono ?_
  rintro e x2 ⟨⟨v2, rfl, hu1, hu2⟩, hb2⟩
  have HK2 : Hid (KS w x2 m a0 len0 cap0) := HK1.out.stays hb2
  have HV2 : Hid (0 ≤ v2 → v2 + (n0 + fldBytes L : Int) ≤ v) := fun h => by have := hu2 h; omega
  clear hb2 hu2 HK1 HV hnegd
  by_cases hneg2 : v2 < 0
  · go_wp2_with fail
    go_ret
    exact ⟨rfl, HK2.out.1⟩
  have hsv2 := HV2.out (by omega)
  have hsz : len0 + n0 + fldBytes z0 + fldBytes L ≤ 1048576 := by omega
  have hle2 : n0 ≤ 1048576 := by omega
  have hn2 : decide (v2 < 0) = false := by simp; omega
  have HT : Hid (∀ W : World, KS w W m a0 len0 cap0 → Flds W a0 len0 z0 ∧ Flds W b0 n0 L) := fun W h => ⟨HX.out.below h.1, HL.out.below h.1⟩
  have HBnd : Hid (∀ (q : List Int) (ys : List Fld), PutN L m z0 n0 q ys → ys.length ≤ 1048576 ∧ q.length ≤ 20000000) := fun q ys h => by
    have h1 := h.fits
    have h2 := fldBytes_take L n0
    omega
  clear hsv hsv2 HV2 hu1 hv1
  obtain ⟨c0, c1, _, _⟩ := HK2.out.2.cells
  go_wp2_with fail
  refine (toTable_any m a0 len0 cap0 z0 x2 (HT.out _ HK2.out).1 hle).mono ?_
  rintro e y1 ⟨g1, rfl, hg1, hf1, hb1⟩
  have HK3 : Hid (KS w y1 m a0 len0 cap0) := HK2.out.stays hb1
  have HF1 : Hid (Flds y1 (some ⟨g1, 0, none⟩) len0 z0) := hf1
  have HB1 : Hid (Below x2.heap.size x2 y1) := hb1
  clear hf1 hb1 hg1 c0 c1
  go_wp2_with fail
  refine (toFieldS_own b0 n0 d0 L y1 (HT.out _ HK3.out).2 hle2).mono ?_
  rintro e y2 ⟨rfl, _, hf2, hb2⟩
  have HF2 : Hid (Flds y2 (some ⟨g1, 0, none⟩) len0 z0 ∧ Flds y2 (some ⟨y1.heap.size, 0, none⟩) n0 L) := ⟨HF1.out.below hb2, hf2⟩
  have HB2 : Hid (Below x2.heap.size x2 y2) := HB1.out.trans (hb2.mono HB1.out.size)
  clear hf2 hb2 HF1 HB1 HK3
  generalize y1.heap.size = gl at *
  go_wp2_with fail
  refine (specPuts_any m _ len0 len0 z0 _ n0 n0 L y2 HF2.out.1 HF2.out.2 hsz).mono ?_
  rintro e y3 ⟨q, qa, qc, vw, kw, ys, rfl, hans, hoq, how, hb3⟩
  obtain ⟨aw, cw, rfl⟩ := how.shape
  have HAns : Hid (PutN L m z0 n0 q ys) := hans
  have hkw : kw ≤ 1048576 := by have := (HBnd.out q ys hans).1; have := how.len; omega
  obtain ⟨ql, hql0⟩ : ∃ ql, q.length = ql := ⟨_, rfl⟩
  have hql : ql ≤ 20000000 := by have := (HBnd.out q ys hans).2; omega
  have HQl : Hid (q.length = ql) := hql0
  rw [hql0] at hoq ⊢
  have hb13 : Below x2.heap.size x2 y3 := HB2.out.trans (hb3.mono HB2.out.size)
  have hP := put_newB hb13 HB2.out.size how hoq m
  obtain ⟨x4, hx4⟩ : ∃ x4, y3.alloc (.cells #[.int .i64 m, .slice aw kw cw] 40) = x4 := ⟨_, rfl⟩
  obtain ⟨bw, hbw⟩ : ∃ bw, y3.heap.size = bw := ⟨_, rfl⟩
  rw [hx4, hbw] at hP
  have HK4 : Hid (KS w x4 m a0 len0 cap0) := HK2.out.stays hP.1
  have HA4 : Hid (AP x4 x2.heap.size m bw aw kw cw ys qa ql qc q) := hP.2
  have HLow : Hid (Low x4.heap.size bw aw qa ∧ w.heap.size < x4.heap.size) := ⟨HA4.out.low, HK4.out.2.lt⟩
  clear hans hoq how hb3 hql0 hb13 hP HF2 HB2 HK2
  obtain ⟨c0, c1, _, _⟩ := HK4.out.2.cells
  go_wp2_with fail
  clear hx4 hbw
  refine (toTable_own m a0 len0 cap0 z0 x4 (HT.out _ HK4.out).1 hle).mono ?_
  rintro e x5 ⟨g5, rfl, hg5, ho5, hf5, hb5⟩
  have HK5 : Hid (KS w x5 m a0 len0 cap0) := HK4.out.stays hb5
  have HA5 : Hid (AP x5 x2.heap.size m bw aw kw cw ys qa ql qc q) := HA4.out.stays hb5
  have HOx5 : Hid (OwnF x5 x4.heap.size (.slice (some ⟨g5, 0, none⟩) len0 len0) len0 z0) := ⟨ho5, HX.out.2.1⟩
  clear hb5 hf5 ho5 HK4 HA4 c0 c1
  have hg5lt : g5 < x5.heap.size := (HOx5.out.lt g5 rfl).2
  obtain ⟨x6, hx6⟩ : ∃ x6, x5.alloc (.cells #[.int .i64 m, .slice (some ⟨g5, 0, none⟩) len0 len0] 40) = x6 := ⟨_, rfl⟩
  have hb56 : Below x5.heap.size x5 x6 := by rw [← hx6]; exact (Below.refl _ _).alloc (Nat.le_refl _) _
  obtain ⟨bx, hbx⟩ : ∃ bx, x5.heap.size = bx := ⟨_, rfl⟩
  have HX6 : Hid (Box2 x6 bx 40 (.int .i64 m) (.slice (some ⟨g5, 0, none⟩) len0 len0)) := by show Box2 _ _ _ _ _; rw [← hx6, ← hbx]; exact Box2.new _ _ _ _
  have HS6 : Hid (g5 < x6.heap.size ∧ x4.heap.size ≤ g5) := ⟨Nat.lt_of_lt_of_le hg5lt hb56.size, hg5⟩
  have HK6 : Hid (KS w x6 m a0 len0 cap0) := HK5.out.stays hb56
  have HA6 : Hid (AP x6 x2.heap.size m bw aw kw cw ys qa ql qc q) := HA5.out.stays hb56
  have HOx6 : Hid (OwnF x6 x4.heap.size (.slice (some ⟨g5, 0, none⟩) len0 len0) len0 z0) := HOx5.out.stays hb56
  clear HK5 HA5 HOx5 hb56 hg5 hg5lt
  go_wp2_with fail
  clear hx6 hbx
  refine (toFieldS_own b0 n0 d0 L x6 (HT.out _ HK6.out).2 hle2).mono ?_
  rintro e x7 ⟨rfl, ho7, hf7, hb7⟩
  have HS7 : Hid (x6.heap.size < x7.heap.size) := (OwnF.lt (⟨ho7, HL.out.2.1⟩ : OwnF x7 x6.heap.size (.slice (some ⟨x6.heap.size, 0, none⟩) n0 n0) n0 L) x6.heap.size rfl).2
  have HOl7 : Hid (OwnF x7 x6.heap.size (.slice (some ⟨x6.heap.size, 0, none⟩) n0 n0) n0 L) := ⟨ho7, HL.out.2.1⟩
  have HK7 : Hid (KS w x7 m a0 len0 cap0) := HK6.out.stays hb7
  have HA7 : Hid (AP x7 x2.heap.size m bw aw kw cw ys qa ql qc q) := HA6.out.stays hb7
  have HX7 : Hid (Box2 x7 bx 40 (.int .i64 m) (.slice (some ⟨g5, 0, none⟩) len0 len0)) := HX6.out.stays hb7
  have HOx7 : Hid (OwnF x7 x4.heap.size (.slice (some ⟨g5, 0, none⟩) len0 len0) len0 z0) := HOx6.out.stays hb7
  clear HK6 HA6 HX6 HOx6 ho7 hf7 hb7
  generalize x6.heap.size = f7 at *
  obtain ⟨c0, c1, _, _⟩ := HX7.out.cells
  go_wp2_with fail
  refine (implPuts_any m _ len0 len0 z0 _ n0 n0 L x7 HOx7.out.flds HOl7.out.flds hsz).mono ?_
  rintro e y4 ⟨g, ga, gc, vg, kg, yg, rfl, hansg, hog, howg, hb4⟩
  obtain ⟨ag, cg, rfl⟩ := howg.shape
  obtain ⟨rfl, rfl⟩ := hansg.one HAns.out
  rw [HQl.out] at hog ⊢
  have hP := put_newB hb4 (Nat.le_refl _) howg hog m
  obtain ⟨x8, hx8⟩ : ∃ x8, y4.alloc (.cells #[.int .i64 m, .slice ag kg cg] 40) = x8 := ⟨_, rfl⟩
  obtain ⟨bg, hbg⟩ : ∃ bg, y4.heap.size = bg := ⟨_, rfl⟩
  have HBg : Hid (x7.heap.size ≤ bg) := by show _ ≤ _; rw [← hbg]; exact hb4.size
  rw [hx8, hbg] at hP
  obtain rfl : kg = kw := by rw [← howg.len, HA7.out.2.1.len]
  have hb78 := hP.1
  have HK8 : Hid (KS w x8 m a0 len0 cap0) := HK7.out.stays hb78
  have HA8 : Hid (AP x8 x2.heap.size m bw aw kg cw yg qa ql qc g) := HA7.out.stays hb78
  have HX8 : Hid (Box2 x8 bx 40 (.int .i64 m) (.slice (some ⟨g5, 0, none⟩) len0 len0)) := HX7.out.stays hb78
  have HOx8 : Hid (OwnF x8 x4.heap.size (.slice (some ⟨g5, 0, none⟩) len0 len0) len0 z0) := HOx7.out.stays hb78
  have HOl8 : Hid (OwnF x8 f7 (.slice (some ⟨f7, 0, none⟩) n0 n0) n0 L) := HOl7.out.stays hb78
  have HG8 : Hid (AP x8 x7.heap.size m bg ag kg cg yg ga ql gc g) := hP.2
  clear hansg hog howg hb4 hP hb78 HK7 HA7 HX7 HOx7 HOl7 c0 c1
  go_wp2_with fail
  clear hx8 hbg
  refine (eqByteS_same ga qa ql gc qc g x8 HG8.out.2.2.seg HA8.out.2.2.seg (by omega)).mono ?_
  rintro e x8b ⟨rfl, hst⟩
  have hb8b : Below x8.heap.size x8 x8b := Still.below hst (Below.refl _ _)
  have HAb : Hid (AP x8b x2.heap.size m bw aw kg cw yg qa ql qc g ∧ AP x8b x7.heap.size m bg ag kg cg yg ga ql gc g) := ⟨HA8.out.stays hb8b, HG8.out.stays hb8b⟩
  have HBb : Hid (Below x8.heap.size x8 x8b) := hb8b
  clear hst hb8b
  obtain ⟨c0, c1, _, _⟩ := HAb.out.1.1.cells
  obtain ⟨c2, c3, _, _⟩ := HAb.out.2.1.cells
  go_wp2_with fail
  refine (eqTable_same m _ _ kg _ _ yg x8b HAb.out.2.2.1.flds HAb.out.1.2.1.flds (by omega)).mono ?_
  rintro e x9 ⟨rfl, hb9⟩
  have HU : Hid (∀ W, Below x9.heap.size x9 W → KS w W m a0 len0 cap0 ∧ AP W x2.heap.size m bw aw kg cw yg qa ql qc g ∧ AP W x7.heap.size m bg ag kg cg yg ga ql gc g ∧ Box2 W bx 40 (.int .i64 m) (.slice (some ⟨g5, 0, none⟩) len0 len0) ∧ OwnF W x4.heap.size (.slice (some ⟨g5, 0, none⟩) len0 len0) len0 z0 ∧ OwnF W f7 (.slice (some ⟨f7, 0, none⟩) n0 n0) n0 L) := by
    intro W hW
    have hb8 : Below x8.heap.size x8 x9 := HBb.out.trans (hb9.mono HBb.out.size)
    have hb : Below x8.heap.size x8 W := hb8.trans (hW.mono hb8.size)
    exact ⟨HK8.out.stays hb, HA8.out.stays hb, HG8.out.stays hb, HX8.out.stays hb, HOx8.out.stays hb, HOl8.out.stays hb⟩
  clear HK8 HA8 HX8 HG8 HOx8 HOl8 HAb HBb c0 c1 c2 c3 hb9
  obtain ⟨c0, c1, _, _⟩ := (HU.out x9 (Below.refl _ _)).1.2.cells
  obtain ⟨c2, c3, _, _⟩ := (HU.out x9 (Below.refl _ _)).2.2.2.1.cells
  go_upto_region 14 with fail
  go_cut [59] from 17 (fun v59 W => v59 = .bool false ∧ Hid (Below x9.heap.size x9 W))
  case first =>
    as_aux_lemma =>
      go_region_with (first
        | (go_at_call 20; refine (toTable_any m a0 len0 cap0 z0 _ (HT.out _ (HU.out _ (Below.refl _ _).drew).1).1 hle).mono ?_; rintro e y1 ⟨g6, rfl, hg6, hf6, hb6⟩; have hb6' : Below x9.heap.size x9 y1 := (Below.refl x9.heap.size x9).drew.trans (hb6.mono (Nat.le_refl _)); obtain ⟨k0, k1, _, _⟩ := (HU.out _ hb6').2.2.2.1.cells)
        | (go_at_call 23; refine (eqTable_same m _ _ len0 len0 len0 z0 _ (HU.out _ hb6').2.2.2.2.1.flds hf6 (by omega)).mono ?_; rintro e y2 ⟨rfl, hb7⟩))
      all_goals
        have HB92 : Hid (Below x9.heap.size x9 y2) := by
          show Below _ _ _
          first
            | exact hb6'.trans (hb7.mono hb6'.size)
            | exact hb6'.drew.trans (hb7.mono hb6'.size)
        clear hb7 hb6 hb6' hf6 hg6 k0 k1
        go_wp2_with fail
        go_meet
        exact ⟨rfl, HB92⟩
  case rest =>
  obtain ⟨rfl, HBc⟩ := hcut
  clear c0 c1 c2 c3
  go_wp2_with fail
  refine (toFieldS_own b0 n0 d0 L wc (HT.out _ (HU.out wc HBc.out).1).2 hle2).mono ?_
  rintro e v1 ⟨rfl, _, hfv, hbv⟩
  have HBv : Hid (Below x9.heap.size x9 v1) := HBc.out.trans (hbv.mono HBc.out.size)
  have HFv : Hid (Flds v1 (some ⟨wc.heap.size, 0, none⟩) n0 L) := hfv
  clear hfv hbv HBc
  generalize wc.heap.size = gv at *
  go_wp2_with fail
  refine (eqFieldS_same (some ⟨f7, 0, none⟩) _ n0 n0 n0 L v1 (HU.out v1 HBv.out).2.2.2.2.2.flds HFv.out (by omega)).mono ?_
  rintro e v3 ⟨rfl, hbv⟩
  obtain ⟨u1, u2, u3, u4, u5, u6⟩ := HU.out v3 (HBv.out.trans (hbv.mono HBv.out.size))
  obtain ⟨c2, c3, _, _⟩ := u4.cells
  have HC : Hid (KS w v3 m a0 len0 cap0 ∧ AP v3 x2.heap.size m bw aw kg cw yg qa ql qc g ∧ AP v3 x7.heap.size m bg ag kg cg yg ga ql gc g) := ⟨u1, u2, u3⟩
  have HOx : Hid (OwnF v3 x4.heap.size (.slice (some ⟨g5, 0, none⟩) len0 len0) len0 z0) := u5
  have HOl : Hid (OwnF v3 f7 (.slice (some ⟨f7, 0, none⟩) n0 n0) n0 L) := u6
  clear u1 u2 u3 u4 u5 u6 HU HBv HFv hbv
  go_wp2_with fail
  refine (markT_any x4.heap.size m (some ⟨g5, 0, none⟩) len0 len0 z0 v3 HOx.out (by omega)).mono ?_
  rintro e z0' ⟨rfl, _, hgr⟩
  have hgr' : v3.grownBy z0' (some g5) := hgr
  have HC0 : Hid (KS w z0' m a0 len0 cap0 ∧ AP z0' x2.heap.size m bw aw kg cw yg qa ql qc g ∧ AP z0' x7.heap.size m bg ag kg cg yg ga ql gc g ∧ OwnF z0' f7 (.slice (some ⟨f7, 0, none⟩) n0 n0) n0 L) := by
    obtain ⟨u1, u2, u3⟩ := HC.out
    have s1 := HS6.out
    have s2 := HLow.out.2
    have s3 := HS7.out
    have s4 := HBg.out
    refine ⟨u1.grown hgr' (fun k e => by injection e with e; omega), u2.above HLow.out.1 hgr' (fun k e => by injection e with e; omega), u3.grown hgr' (fun e => by injection e with e; omega) (fun k e e2 => ?_) (fun k e e2 => ?_), ownF_kept HOl.out hgr' (fun k e e2 => ?_)⟩
    · have := (u3.2.1.lt k (by rw [ownBlock_slice]; exact e2)).1
      injection e with e
      omega
    · have := (u3.2.2.lt k e2).1
      injection e with e
      omega
    · injection e with e
      injection e2 with e2
      dsimp only at e2
      omega
  clear hgr hgr' HC HOx HOl c2 c3
  obtain ⟨km, hkm⟩ : ∃ km, 1 + 2 * len0 = km := ⟨_, rfl⟩
  have hkm2 : km ≤ 2097153 := by omega
  rw [hkm]
  clear hkm
  go_wp2_with fail
  refine (markFS_any f7 (some ⟨f7, 0, none⟩) n0 n0 km L z0' HC0.out.2.2.2 (by omega) (by omega)).mono ?_
  rintro e z1 ⟨rfl, _, hgr⟩
  have hgr' : z0'.grownBy z1 (some f7) := hgr
  have HC1 : Hid (KS w z1 m a0 len0 cap0 ∧ AP z1 x2.heap.size m bw aw kg cw yg qa ql qc g ∧ AP z1 x7.heap.size m bg ag kg cg yg ga ql gc g) := by
    obtain ⟨u1, u2, u3, _⟩ := HC0.out
    have s1 := HS6.out
    have s2 := HLow.out.2
    have s3 := HS7.out
    have s4 := HBg.out
    refine ⟨u1.grown hgr' (fun k e => by injection e with e; omega), u2.above HLow.out.1 hgr' (fun k e => by injection e with e; omega), u3.grown hgr' (fun e => by injection e with e; omega) (fun k e e2 => ?_) (fun k e e2 => ?_)⟩
    · have := (u3.2.1.lt k (by rw [ownBlock_slice]; exact e2)).1
      injection e with e
      omega
    · have := (u3.2.2.lt k e2).1
      injection e with e
      omega
  clear hgr hgr' HC0
  have hp1 : ¬ ((km + 2 * n0 : Nat) : Int) < 0 := by omega
  have hp1d : decide (((km + 2 * n0 : Nat) : Int) < 0) = false := by simp; omega
  generalize ((km + 2 * n0 : Nat) : Int) = q1 at *
  go_wp2_with fail
  refine (eqByteS_same ga qa ql gc qc g z1 HC1.out.2.2.2.2.seg HC1.out.2.1.2.2.seg (by omega)).mono ?_
  rintro e z1b ⟨rfl, hst⟩
  have hb8b : Below z1.heap.size z1 z1b := Still.below hst (Below.refl _ _)
  have HC1b : Hid (KS w z1b m a0 len0 cap0 ∧ AP z1b x2.heap.size m bw aw kg cw yg qa ql qc g ∧ AP z1b x7.heap.size m bg ag kg cg yg ga ql gc g) := ⟨HC1.out.1.stays hb8b, HC1.out.2.1.stays hb8b, HC1.out.2.2.stays hb8b⟩
  clear hst hb8b HC1
  obtain ⟨c0, c1, _, _⟩ := HC1b.out.2.1.1.cells
  obtain ⟨c2, c3, _, _⟩ := HC1b.out.2.2.1.cells
  go_wp2_with fail
  refine (eqTable_same m _ _ kg _ _ yg z1b HC1b.out.2.2.2.1.flds HC1b.out.2.1.2.1.flds (by omega)).mono ?_
  rintro e z2 ⟨rfl, hb2⟩
  have HC2 : Hid (KS w z2 m a0 len0 cap0 ∧ AP z2 x2.heap.size m bw aw kg cw yg qa ql qc g ∧ AP z2 x7.heap.size m bg ag kg cg yg ga ql gc g) := ⟨HC1b.out.1.stays hb2, HC1b.out.2.1.stays hb2, HC1b.out.2.2.stays hb2⟩
  clear hb2 HC1b c0 c1 c2 c3
  go_wp2_with fail
  refine (mark_one x7.heap.size ga ql gc g z2 HC2.out.2.2.2.2 (by omega)).mono ?_
  rintro e z3 ⟨rfl, hmk, hon⟩
  have hgr : z2.grownBy z3 (ga.map (·.block)) := hon
  have HLow7 : Hid (x4.heap.size ≤ x7.heap.size ∧ w.heap.size < x7.heap.size) := by
    have s1 := HS6.out
    have s2 := HLow.out.2
    have s3 := HS7.out
    exact ⟨by omega, by omega⟩
  have HC3 : Hid (KS w z3 m a0 len0 cap0 ∧ AP z3 x2.heap.size m bw aw kg cw yg qa ql qc g ∧ AP z3 x7.heap.size m bg ag kg cg yg ga ql gc (marks 1 ql)) := by
    obtain ⟨u1, u2, u3⟩ := HC2.out
    have s1 := HLow7.out
    refine ⟨u1.grown hgr (fun k e => by have := (u3.2.2.lt k e).1; omega), u2.above HLow.out.1 hgr (fun k e => by have := (u3.2.2.lt k e).1; omega), u3.1.grown hgr ?_, ownF_kept u3.2.1 hgr (fun k e => ?_), hmk⟩
    · have := own_other' u3.2.2.1 u3.1 (by decide)
      rwa [ownBlock_slice] at this
    · have := rows_apart u3.2.2.1 u3.2.1.1 (by decide) k (by rw [ownBlock_slice]; exact e)
      rwa [ownBlock_slice] at this
  clear hmk hon hgr HC2
  obtain ⟨k1, hk1⟩ : ∃ k1, 1 + ql = k1 := ⟨_, rfl⟩
  have hk1b : k1 ≤ 20000001 := by omega
  have HHB : Hid (∀ W : World, Owns W x7.heap.size ga ql gc (marks 1 ql) → Calls Try.prog 14 #[.slice ga ql gc, .int .i64 1] W fun e w' => e = .returned (.int .i64 (k1 : Int)) ∧ w' = W) := fun W h => by
    rw [← hk1]
    exact held_one x7.heap.size ga ql gc W h (by omega)
  rw [hk1]
  clear hk1
  obtain ⟨c2, c3, _, _⟩ := HC3.out.2.2.1.cells
  go_wp2_with fail
  refine (markTk_any x7.heap.size m ag kg cg k1 yg z3 HC3.out.2.2.2.1 (by omega) (by omega)).mono ?_
  rintro e z4 ⟨rfl, hmk, hgr⟩
  have HC4 : Hid (KS w z4 m a0 len0 cap0 ∧ AP z4 x2.heap.size m bw aw kg cw yg qa ql qc g ∧ AP z4 x7.heap.size m bg ag kg cg (marksF k1 kg) ga ql gc (marks 1 ql)) := by
    obtain ⟨u1, u2, u3⟩ := HC3.out
    have s1 := HLow7.out
    have hlo : ∀ k, ag.map (·.block) = some k → x7.heap.size ≤ k := fun k e => (u3.2.1.lt k (by rw [ownBlock_slice]; exact e)).1
    refine ⟨u1.grown hgr (fun k e => by have := hlo k e; omega), u2.above HLow.out.1 hgr (fun k e => by have := hlo k e; omega), u3.1.grown hgr ?_, hmk, owns_kept u3.2.2 hgr (fun k e => ?_)⟩
    · have := own_other' u3.2.1.1 u3.1 (by decide)
      rwa [ownBlock_slice] at this
    · have := rows_apart u3.2.1.1 u3.2.2.1 (by decide) k (by rw [ownBlock_slice]; exact e)
      rwa [ownBlock_slice] at this
  clear hmk hgr HC3 c2 c3
  obtain ⟨k2, hk2⟩ : ∃ k2, k1 + 2 * kg = k2 := ⟨_, rfl⟩
  have HHT : Hid (∀ W : World, Flds W ag kg (marksF k1 kg) → Calls Try.prog 25 #[.agg #[.int .i64 m, .slice ag kg cg], .int .i64 (k1 : Int)] W fun e w' => e = .returned (.int .i64 (k2 : Int)) ∧ Below W.heap.size W w') := fun W h => by
    rw [← hk2]
    exact heldTk_any m ag kg cg k1 W h (by omega) (by omega)
  rw [hk2]
  clear hk2
  have hp2 : ¬ (k1 : Int) < 0 := by omega
  have hp2d : decide ((k1 : Int) < 0) = false := by simp
  have hp3 : ¬ (k2 : Int) < 0 := by omega
  have hp3d : decide ((k2 : Int) < 0) = false := by simp
  have hp3e : ((k2 : Int) != (k2 : Int)) = false := by simp
  go_wp2_with fail
  refine (HHB.out z4 HC4.out.2.2.2.2).mono ?_
  rintro e z5 ⟨rfl, rfl⟩
  obtain ⟨c2, c3, _, _⟩ := HC4.out.2.2.1.cells
  go_wp2_with fail
  refine (HHT.out z5 HC4.out.2.2.2.1.flds).mono ?_
  rintro e z6 ⟨rfl, hb6⟩
  have HC6 : Hid (KS w z6 m a0 len0 cap0 ∧ AP z6 x2.heap.size m bw aw kg cw yg qa ql qc g ∧ AP z6 x7.heap.size m bg ag kg cg (marksF k1 kg) ga ql gc (marks 1 ql)) := ⟨HC4.out.1.stays hb6, HC4.out.2.1.stays hb6, HC4.out.2.2.stays hb6⟩
  clear hb6 HC4 c2 c3
  obtain ⟨c0, c1, _, _⟩ := HC6.out.1.2.cells
  go_wp2_with fail
  refine (toTable_any m a0 len0 cap0 z0 z6 (HT.out _ HC6.out.1).1 hle).mono ?_
  rintro e y5 ⟨g9, rfl, _, hf1, hb1⟩
  have HF1 : Hid (Flds y5 (some ⟨g9, 0, none⟩) len0 z0) := hf1
  have HB1 : Hid (Below z6.heap.size z6 y5) := hb1
  clear hf1 hb1 c0 c1
  go_wp2_with fail
  refine (toFieldS_own b0 n0 d0 L y5 (HT.out _ (HC6.out.1.stays HB1.out)).2 hle2).mono ?_
  rintro e y6 ⟨rfl, _, hf2, hb2⟩
  have HF2 : Hid (Flds y6 (some ⟨g9, 0, none⟩) len0 z0 ∧ Flds y6 (some ⟨y5.heap.size, 0, none⟩) n0 L) := ⟨HF1.out.below hb2, hf2⟩
  have HB2 : Hid (Below z6.heap.size z6 y6) := HB1.out.trans (hb2.mono HB1.out.size)
  clear hf2 hb2 HF1 HB1
  generalize y5.heap.size = gm at *
  go_wp2_with fail
  refine (implPuts_any m _ len0 len0 z0 _ n0 n0 L y6 HF2.out.1 HF2.out.2 hsz).mono ?_
  rintro e y7 ⟨h, ha, hc, vh, kh, yh, rfl, hansh, hoh, howh, hb7⟩
  obtain ⟨ah, ch, rfl⟩ := howh.shape
  obtain ⟨rfl, rfl⟩ := hansh.one HAns.out
  rw [HQl.out] at hoh ⊢
  obtain rfl : kh = kg := by rw [← howh.len, HC6.out.2.1.2.1.len]
  have hb67 : Below z6.heap.size z6 y7 := HB2.out.trans (hb7.mono HB2.out.size)
  have hP := put_newB hb67 HB2.out.size howh hoh m
  obtain ⟨z7, hz7⟩ : ∃ z7, y7.alloc (.cells #[.int .i64 m, .slice ah kh ch] 40) = z7 := ⟨_, rfl⟩
  obtain ⟨bh, hbh⟩ : ∃ bh, y7.heap.size = bh := ⟨_, rfl⟩
  rw [hz7, hbh] at hP
  have HC7 : Hid (KS w z7 m a0 len0 cap0 ∧ AP z7 x2.heap.size m bw aw kh cw yh qa ql qc h ∧ AP z7 x7.heap.size m bg ag kh cg (marksF k1 kh) ga ql gc (marks 1 ql) ∧ AP z7 z6.heap.size m bh ah kh ch yh ha ql hc h) := ⟨HC6.out.1.stays hP.1, HC6.out.2.1.stays hP.1, HC6.out.2.2.stays hP.1, hP.2⟩
  clear hansh hoh howh hb7 hb67 hP HF2 HB2 HC6
  go_wp2_with fail
  clear hz7 hbh
  refine (eqByteS_same ha qa ql hc qc h z7 HC7.out.2.2.2.2.2.seg HC7.out.2.1.2.2.seg (by omega)).mono ?_
  rintro e z8 ⟨rfl, hst⟩
  have hb8 : Below z7.heap.size z7 z8 := Still.below hst (Below.refl _ _)
  have HC8 : Hid (KS w z8 m a0 len0 cap0 ∧ AP z8 x2.heap.size m bw aw kh cw yh qa ql qc h ∧ AP z8 x7.heap.size m bg ag kh cg (marksF k1 kh) ga ql gc (marks 1 ql) ∧ AP z8 z6.heap.size m bh ah kh ch yh ha ql hc h) := ⟨HC7.out.1.stays hb8, HC7.out.2.1.stays hb8, HC7.out.2.2.1.stays hb8, HC7.out.2.2.2.stays hb8⟩
  clear hst hb8 HC7
  obtain ⟨c0, c1, _, _⟩ := HC8.out.2.1.1.cells
  obtain ⟨c2, c3, _, _⟩ := HC8.out.2.2.2.1.cells
  go_wp2_with fail
  refine (eqTable_same m _ _ kh _ _ yh z8 HC8.out.2.2.2.2.1.flds HC8.out.2.1.2.1.flds (by omega)).mono ?_
  rintro e z9 ⟨rfl, hb9⟩
  have HC9 : Hid (KS w z9 m a0 len0 cap0 ∧ AP z9 x7.heap.size m bg ag kh cg (marksF k1 kh) ga ql gc (marks 1 ql)) := ⟨HC8.out.1.stays hb9, HC8.out.2.2.1.stays hb9⟩
  clear hb9 HC8 c0 c1 c2 c3
  go_wp2_with fail
  refine (HHB.out z9 HC9.out.2.2.2).mono ?_
  rintro e z10 ⟨rfl, rfl⟩
  obtain ⟨c2, c3, _, _⟩ := HC9.out.2.1.cells
  go_wp2_with fail
  refine (HHT.out z10 HC9.out.2.2.1.flds).mono ?_
  rintro e z11 ⟨rfl, hb11⟩
  have HB11 : Hid (Below w.heap.size w z11) := (HC9.out.1.stays hb11).1
  clear hb11 HC9 c2 c3
  go_wp2_with fail
  go_ret
  exact ⟨rfl, HB11.out⟩

end Go.Proofs.Ytghakpcagacdaal
