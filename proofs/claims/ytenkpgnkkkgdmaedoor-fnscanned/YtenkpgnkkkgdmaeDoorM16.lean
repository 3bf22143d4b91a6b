/- A drawn disk of records. For codes of at most 2^40 bytes. -/
import Derived.Test.YtenkpgnkkkgdmaeDoorM07
import Derived.Test.YtenkpgnkkkgdmaeDoorM09
import Derived.Test.YtenkpgnkkkgdmaeDoorM10
import Derived.Test.YtenkpgnkkkgdmaeDoorM11
import Derived.Test.YtenkpgnkkkgdmaeDoorM15
import Derived.Deep.CutBlock
import Derived.StillTailTactics
namespace Go.Proofs.YtenkpgnkkkgdmaeDoor
open Go.RowKit
set_option linter.unusedVariables false

theorem DV.far {w W : World} {b n n' C C' : Nat} {A A' : Option Addr} {X Y : List ByteArray} (h : DV w W b A n C A' n' C' X Y) {q i : Nat} (hb : q ≠ b) (hw : q ≠ w.heap.size) (hA : A.map (·.block) ≠ some q) (hA' : A'.map (·.block) ≠ some q) (v : Value) : DV w (W.setCell ⟨q, i, none⟩ v) b A n C A' n' C' X Y := by
  obtain ⟨h1, h2, h3, h4, h5, h6, h7⟩ := h
  exact ⟨h1.other (Ne.symm hb) _, h2.other (Ne.symm hw) _, h3.setCell (by rw [blkOf_sV]; exact hA) _, h4.setCell (by rw [blkOf_sV]; exact hA') _, h5, h6, h7⟩

set_option maxRecDepth 10000 in
set_option maxHeartbeats 3200000 in
theorem l13Disk_any (B c : Nat) (a : Option Addr) (len cap : Nat) (zs : List Int) (w : World) (hcur : Cur w B c a len cap zs) (hl : len ≤ 1099511627776) :
    Calls Tryd.prog 61 #[.pointer (some ⟨c, 0, none⟩)] w fun e w' => (∃ v, e = .returned v ∧ Drawn5 w.heap.size v w') ∧ Cur w' B c a len cap zs ∧ w.grownBy w' (some c) := by
  have HC : Hid (Cur w B c a len cap zs) := hcur
  clear hcur
  have hcw : c < w.heap.size := HC.out.lt
  obtain ⟨w1, hw1⟩ : ∃ w1, w.alloc (.cells #[.slice none 0 0, .slice none 0 0] 54) = w1 := ⟨_, rfl⟩
  have HE : Hid (w.alloc (.cells #[.slice none 0 0, .slice none 0 0] 54) = w1) := hw1
  have HQ1 : Hid (Box2R w1 w.heap.size 54 (.slice none 0 0) (.slice none 0 0)) := by show Box2R _ _ _ _ _; rw [← hw1]; exact Box2R.new _ _ _ _
  have HC1 : Hid (Cur w1 B c a len cap zs) := by show Cur _ _ _ _ _ _ _; rw [← hw1]; exact HC.out.new _
  have HG1 : Hid (w.grownBy w1 (some c)) := by show World.grownBy _ _ _; rw [← hw1]; exact World.grownBy_alloc w _ _
  clear hw1 HC
  go_enter Tryd.func61, Tryd.ntmps61
  go_upto_region 1 with fail
  rw [HE.out]
  clear HE
  go_wp2_with fail
  refine (specDnew_any 5 w1).mono ?_
  rintro e w2 ⟨⟨v, rfl, A, C, A', C', rfl, o1, o2, hap⟩, hb2⟩
  rw [List.length_replicate, show newN 5 = 5 from rfl] at o1 o2 ⊢
  obtain ⟨g, rfl⟩ := ownSt_at o1 (by omega)
  obtain ⟨g', rfl⟩ := ownSt_at o2 (by omega)
  have HD3 : Hid (DV w (w2.alloc (.cells #[.slice (some ⟨g, 0, none⟩) 5 C, .slice (some ⟨g', 0, none⟩) 5 C'] 54)) w2.heap.size (some ⟨g, 0, none⟩) 5 C (some ⟨g', 0, none⟩) 5 C' (List.replicate 5 ⟨#[]⟩) (List.replicate 5 ⟨#[]⟩)) := DV.new HQ1.out hb2 o1 o2 hap
  have HC3 : Hid (Cur (w2.alloc (.cells #[.slice (some ⟨g, 0, none⟩) 5 C, .slice (some ⟨g', 0, none⟩) 5 C'] 54)) B c a len cap zs) := (HC1.out.kept (gbelow hb2 none) (by simp)).new _
  have HG3 : Hid (w.grownBy (w2.alloc (.cells #[.slice (some ⟨g, 0, none⟩) 5 C, .slice (some ⟨g', 0, none⟩) 5 C'] 54)) (some c)) := gnew (gtrans HG1.out (gbelow hb2 _)) _
  clear o1 o2 hap hb2 HC1 HG1 HQ1
  go_wp2_with fail
  obtain ⟨w4, hw4⟩ : ∃ w4, w2.alloc (.cells #[.slice (some ⟨g, 0, none⟩) 5 C, .slice (some ⟨g', 0, none⟩) 5 C'] 54) = w4 := ⟨_, rfl⟩
  rw [hw4] at HD3 HC3 HG3 ⊢
  clear hw4
  generalize w2.heap.size = b at *
  go_loopw [4] (fun v wr => ∃ (k : Nat) (X Y : List ByteArray), v = .int .i64 (k : Int) ∧ k ≤ 5 ∧ Hid (∀ x ∈ X, x.size ≤ 48) ∧ Hid (DV w wr b (some ⟨g, 0, none⟩) 5 C (some ⟨g', 0, none⟩) 5 C' X Y) ∧ Hid (Cur wr B c a len cap zs) ∧ Hid (w.grownBy wr (some c))) (fun v _ => 5 - (intOf v).toNat)
  case atStart => exact ⟨0, _, _, rfl, by omega, (fun x hx => by rw [List.eq_of_mem_replicate hx]; exact Nat.zero_le _), HD3, HC3, HG3⟩
  case round =>
    clear HD3 HC3 HG3
    obtain ⟨k, X, Y, rfl, hk5, HX, HD, HC, HG⟩ := hrel
    by_cases hk : k < 5
    case neg =>
      obtain rfl : k = 5 := by omega
      obtain ⟨c0, c1⟩ := HD.out.1.cells
      obtain ⟨r0, r1⟩ := HD.out.2.1.cells
      have f0 := HD.out.2.1.frozen 0
      have f1 := HD.out.2.1.frozen 1
      have HR : Hid (Drawn5 w.heap.size (.agg #[.slice (some ⟨g, 0, none⟩) 5 C, .slice (some ⟨g', 0, none⟩) 5 C']) ((wr.setCell ⟨w.heap.size, 0, none⟩ (.slice (some ⟨g, 0, none⟩) 5 C)).setCell ⟨w.heap.size, 1, none⟩ (.slice (some ⟨g', 0, none⟩) 5 C')) ∧ Cur ((wr.setCell ⟨w.heap.size, 0, none⟩ (.slice (some ⟨g, 0, none⟩) 5 C)).setCell ⟨w.heap.size, 1, none⟩ (.slice (some ⟨g', 0, none⟩) 5 C')) B c a len cap zs ∧ w.grownBy ((wr.setCell ⟨w.heap.size, 0, none⟩ (.slice (some ⟨g, 0, none⟩) 5 C)).setCell ⟨w.heap.size, 1, none⟩ (.slice (some ⟨g', 0, none⟩) 5 C')) (some c)) := by
        exact ⟨⟨X, Y, HD.out.done, HD.out.2.2.1.len, HD.out.2.2.2.1.len, HX.out⟩, (HC.out.put hcw _).put hcw _, gput (gput HG.out (Nat.le_refl _) _) (Nat.le_refl _) _⟩
      clear HD HC HG HX
      go_wp2_with fail
      refine bodyPost_ret (v := .agg #[.slice (some ⟨g, 0, none⟩) 5 C, .slice (some ⟨g', 0, none⟩) 5 C']) (by simp [results, Tryd.f61, go_sem, r0, r1]) rfl ?_
      exact ⟨⟨_, rfl, HR.out.1⟩, HR.out.2⟩
    have hki : (k : Int) < 5 := by omega
    have hk0 : (0 : Int) ≤ (k : Int) := by omega
    have hbw : w.heap.size < b := HD.out.2.2.2.2.2.2
    have hbr : b < wr.heap.size := HD.out.1.lt
    have hgr : g < wr.heap.size := (HD.out.2.2.1.lt g rfl).2
    have hgr' : g' < wr.heap.size := (HD.out.2.2.2.1.lt g' rfl).2
    go_wp2_with fail
    refine (l13Rec_any B c a len cap zs (k : Int) wr HC.out hl).mono ?_
    rintro _ x1 ⟨⟨v, rfl, r, A1, C1, rfl, ho1, hi9, hd25⟩, hc1, hg1⟩
    obtain ⟨d1, hd1⟩ : ∃ d1, r.zs.length = d1 := ⟨_, rfl⟩
    rw [hd1] at ho1 hd25 ⊢
    clear hd1
    have hx1 : wr.heap.size ≤ x1.heap.size := hg1.size
    have hb2 := (Below.refl x1.heap.size x1).alloc (Nat.le_refl _) (.cells #[.int .i64 r.e, .int .i64 r.q, .int .i64 r.k, .string r.id, .int .i64 r.n, .slice A1 d1 C1] 43)
    have HD2 : Hid (DV w (x1.alloc (.cells #[.int .i64 r.e, .int .i64 r.q, .int .i64 r.k, .string r.id, .int .i64 r.n, .slice A1 d1 C1] 43)) b (some ⟨g, 0, none⟩) 5 C (some ⟨g', 0, none⟩) 5 C' X Y) := (HD.out.grown hg1 (fun q e => by injection e with e; omega)).stays hb2
    have HC2 : Hid (Cur (x1.alloc (.cells #[.int .i64 r.e, .int .i64 r.q, .int .i64 r.k, .string r.id, .int .i64 r.n, .slice A1 d1 C1] 43)) B c a len cap zs) := hc1.new _
    have HG2 : Hid (w.grownBy (x1.alloc (.cells #[.int .i64 r.e, .int .i64 r.q, .int .i64 r.k, .string r.id, .int .i64 r.n, .slice A1 d1 C1] 43)) (some c)) := gnew (gtrans HG.out hg1) _
    have HR2 : Hid (BoxN (x1.alloc (.cells #[.int .i64 r.e, .int .i64 r.q, .int .i64 r.k, .string r.id, .int .i64 r.n, .slice A1 d1 C1] 43)) x1.heap.size 43 [.int .i64 r.e, .int .i64 r.q, .int .i64 r.k, .string r.id, .int .i64 r.n, .slice A1 d1 C1]) := BoxN.new _ _ _
    have HO2 : Hid (Owns (x1.alloc (.cells #[.int .i64 r.e, .int .i64 r.q, .int .i64 r.k, .string r.id, .int .i64 r.n, .slice A1 d1 C1] 43)) wr.heap.size A1 d1 C1 r.zs) := ho1.below hb2
    have HA1 : Hid (∀ q, A1.map (·.block) = some q → wr.heap.size ≤ q ∧ q < x1.heap.size) := fun q e => ho1.lt q e
    clear ho1 hc1 hg1 hb2 HD HC HG
    go_upto_region 6 with fail
    obtain ⟨x2, hx2⟩ : ∃ x2, x1.alloc (.cells #[.int .i64 r.e, .int .i64 r.q, .int .i64 r.k, .string r.id, .int .i64 r.n, .slice A1 d1 C1] 43) = x2 := ⟨_, rfl⟩
    rw [hx2] at HD2 HC2 HG2 HR2 HO2 ⊢
    clear hx2
    generalize x1.heap.size = rb at *
    have hrb : rb < x2.heap.size := HR2.out.lt
    go_wp2_with fail
    refine (l1Int_any B c a len cap zs x2.heap.size 5 5 [1, 1, 1, 0, 2] _ (HC2.out.new _) hl (heap_alloc_new x2 _) (by omega) rfl (by omega) (by omega)).mono ?_
    rintro _ x3 ⟨ep, rfl, hep, hc3, hg3⟩
    have hg23 : x2.grownBy x3 (some c) := gtrans (World.grownBy_alloc x2 _ _) hg3
    have hR3 := HR2.out.grown hg23 (fun e => by injection e with e; omega)
    have hD3 := HD2.out.grown hg23 (fun q e => by injection e with e; omega)
    have hO3 := HO2.out.grown hg23 (fun q e e2 => by injection e with e; have := (HA1.out q e2).1; omega)
    have HR4 : Hid (BoxN (x3.setCell ⟨rb, 0, none⟩ (.int .i64 ep)) rb 43 [.int .i64 ep, .int .i64 r.q, .int .i64 r.k, .string r.id, .int .i64 r.n, .slice A1 d1 C1]) := hR3.set 0 _
    have HD4 : Hid (DV w (x3.setCell ⟨rb, 0, none⟩ (.int .i64 ep)) b (some ⟨g, 0, none⟩) 5 C (some ⟨g', 0, none⟩) 5 C' X Y) := hD3.far (by omega) (by omega) (fun e => by simp at e; omega) (fun e => by simp at e; omega) _
    have HO4 : Hid (Owns (x3.setCell ⟨rb, 0, none⟩ (.int .i64 ep)) wr.heap.size A1 d1 C1 r.zs) := owns_set hO3 (fun e => by have := (HA1.out _ e).2; omega)
    have HC4 : Hid (Cur (x3.setCell ⟨rb, 0, none⟩ (.int .i64 ep)) B c a len cap zs) := hc3.put (by omega) _
    have HG4 : Hid (w.grownBy (x3.setCell ⟨rb, 0, none⟩ (.int .i64 ep)) (some c)) := gput (gtrans HG2.out hg23) (by omega) _
    have z0 := hR3.cell 0 rfl
    have y0 := hR3.frozen 0
    clear hep hc3 hg3 hg23 hR3 hD3 hO3 HD2 HC2 HG2 HR2 HO2
    go_upto_region 7 with fail
    obtain ⟨x4, hx4⟩ : ∃ x4, x3.setCell ⟨rb, 0, none⟩ (.int .i64 ep) = x4 := ⟨_, rfl⟩
    rw [hx4] at HD4 HC4 HG4 HR4 HO4 ⊢
    clear hx4 z0 y0
    go_wp2_with fail
    refine (l1Once_any B c a len cap zs 6 x4 HC4.out hl (by omega) (by omega)).mono ?_
    rintro _ x5 ⟨bb, rfl, hc5, hg5⟩
    have HC5 : Hid (Cur x5 B c a len cap zs) := hc5
    have HG5 : Hid (w.grownBy x5 (some c)) := gtrans HG4.out hg5
    have HD5 : Hid (DV w x5 b (some ⟨g, 0, none⟩) 5 C (some ⟨g', 0, none⟩) 5 C' X Y) := HD4.out.grown hg5 (fun q e => by injection e with e; omega)
    have HR5 : Hid (BoxN x5 rb 43 [.int .i64 ep, .int .i64 r.q, .int .i64 r.k, .string r.id, .int .i64 r.n, .slice A1 d1 C1]) := HR4.out.grown hg5 (fun e => by injection e with e; omega)
    have HO5 : Hid (Owns x5 wr.heap.size A1 d1 C1 r.zs) := HO4.out.grown hg5 (fun q e e2 => by injection e with e; have := (HA1.out q e2).1; omega)
    clear hc5 hg5 HD4 HC4 HG4 HR4 HO4
    cases bb
    case true =>
      clear HR5 HO5 HA1
      go_wp2_with fail
      refine (l1Once_any B c a len cap zs 2 x5 HC5.out hl (by omega) (by omega)).mono ?_
      rintro _ x7 ⟨b2, rfl, hc7, hg7⟩
      have HC7 : Hid (Cur x7 B c a len cap zs) := hc7
      have HG7 : Hid (w.grownBy x7 (some c)) := gtrans HG5.out hg7
      have HD7 : Hid (DV w x7 b (some ⟨g, 0, none⟩) 5 C (some ⟨g', 0, none⟩) 5 C' X Y) := HD5.out.grown hg7 (fun q e => by injection e with e; omega)
      clear hc7 hg7 HD5 HC5 HG5
      cases b2
      · go_wp2_with fail
        go_roundw
        case rel => exact ⟨k + 1, X, Y, by go_num, by omega, HX, HD7, HC7, HG7⟩
        case measure => simp [intOf]; omega
      · go_upto_region 10 with fail
        obtain ⟨c0, c1⟩ := HD7.out.1.cells
        obtain ⟨s, hs, e0, _⟩ := ownSt_cell HD7.out.2.2.1 hk
        obtain ⟨s', _, e1, e2⟩ := ownSt_cell HD7.out.2.2.2.1 hk
        have hs48 : s.size ≤ 48 := HX.out s (List.mem_of_getElem? hs)
        have d0 : x7.drew.cell? ⟨b, 0, none⟩ = some (.slice (some ⟨g, 0, none⟩) 5 C) := c0
        have d1' : x7.drew.cell? ⟨b, 1, none⟩ = some (.slice (some ⟨g', 0, none⟩) 5 C') := c1
        have d2 : x7.drew.cell? ⟨g, k, none⟩ = some (.string s) := e0
        have d3 : x7.drew.cell? ⟨g', k, none⟩ = some (.string s') := e1
        have d4 : x7.drew.frozen? ⟨g', k, none⟩ = false := e2
        have HD8 : Hid (DV w (x7.setCell ⟨g', k, none⟩ (.string s)).drew b (some ⟨g, 0, none⟩) 5 C (some ⟨g', 0, none⟩) 5 C' X (Y.set k s)) := (HD7.out.putS k s (by unfold maxLen; omega)).stays (Below.refl _ _).drew
        have hgl' : w.heap.size + 1 ≤ g' := (HD7.out.2.2.2.1.lt g' rfl).1
        have HC8 : Hid (Cur (x7.setCell ⟨g', k, none⟩ (.string s)).drew B c a len cap zs) := (HC7.out.put (by omega) _).kept (gbelow (Below.refl _ _).drew none) (by simp)
        have HG8 : Hid (w.grownBy (x7.setCell ⟨g', k, none⟩ (.string s)).drew (some c)) := gtrans (gput HG7.out (by omega) _) (gbelow (Below.refl _ _).drew _)
        clear HD7 HC7 HG7 c0 c1 e0 e1 e2 hs
        refine wp_region_still_tail 8 (by kernel_rfl) (by kernel_rfl) ?_
        simp only [List.take_succ_cons, List.take_zero, List.drop_succ_cons, List.drop_zero]
        repeat still_step
        refine wpStill_nil ?_
        go_wp2_with fail
        go_roundw
        case rel => exact ⟨k + 1, X, Y.set k s, by go_num, by omega, HX, HD8, HC8, HG8⟩
        case measure => simp [intOf]; omega

    case false =>
      go_upto_region 8 with fail
      have HSg : Hid (∀ W, Below x5.drew.heap.size x5.drew W → Seg W A1 d1 r.zs ∧ DV w W b (some ⟨g, 0, none⟩) 5 C (some ⟨g', 0, none⟩) 5 C' X Y ∧ Cur W B c a len cap zs ∧ w.grownBy W (some c)) := fun W h0 => by
        have h : Below x5.heap.size x5 W := ((Below.refl x5.heap.size x5).drew).trans h0
        exact ⟨HO5.out.seg.below h, HD5.out.stays h, HC5.out.kept (gbelow h none) (by simp), gtrans HG5.out (gbelow h _)⟩
      have HRd : Hid (∀ W, Below x5.drew.heap.size x5.drew W → BoxN W rb 43 [.int .i64 ep, .int .i64 r.q, .int .i64 r.k, .string r.id, .int .i64 r.n, .slice A1 d1 C1]) := fun W h => HR5.out.stays (((Below.refl x5.heap.size x5).drew).trans h)
      clear HD5 HC5 HG5 HR5 HO5
      go_cut [38] from 21 (fun u W => u = undef ∧ ∃ X', Hid (∀ x ∈ X', x.size ≤ 48) ∧ Hid (DV w W b (some ⟨g, 0, none⟩) 5 C (some ⟨g', 0, none⟩) 5 C' X' Y) ∧ Hid (Cur W B c a len cap zs) ∧ Hid (w.grownBy W (some c)))
      case first =>
        obtain ⟨k0, k1⟩ := (HSg.out x5.drew (Below.refl _ _)).2.1.1.cells
        obtain ⟨m0, m1, m2, m3, m4, m5⟩ := (show _ ∧ _ ∧ _ ∧ _ ∧ _ ∧ _ from ⟨(HRd.out x5.drew (Below.refl _ _)).cell 0 rfl, (HRd.out x5.drew (Below.refl _ _)).cell 1 rfl, (HRd.out x5.drew (Below.refl _ _)).cell 2 rfl, (HRd.out x5.drew (Below.refl _ _)).cell 3 rfl, (HRd.out x5.drew (Below.refl _ _)).cell 4 rfl, (HRd.out x5.drew (Below.refl _ _)).cell 5 rfl⟩)
        go_region_with (first
          | (go_at_call 83; refine (specPutR_any ep r.q r.k r.id r.n A1 d1 C1 r.zs _ (HSg.out x5.drew (Below.refl _ _)).1 (by unfold maxLen; omega) (by omega)).mono ?_; rintro _ y ⟨rfl, hby⟩
             obtain ⟨q0, q1⟩ := (HSg.out y hby).2.1.1.cells
             obtain ⟨s, hs, e0, e2⟩ := ownSt_cell (HSg.out y hby).2.1.2.2.1 hk)
          | fail)
        all_goals
          have hps := putT_sz ep r.q r.k r.id r.n r.zs
          generalize putT ep r.q r.k r.id r.n r.zs = ps at *
          have hgl : w.heap.size + 1 ≤ g := ((HSg.out y hby).2.1.2.2.1.lt g rfl).1
          have HF : Hid (Hid (∀ x ∈ X.set k ps, x.size ≤ 48) ∧ Hid (DV w (y.setCell ⟨g, k, none⟩ (.string ps)) b (some ⟨g, 0, none⟩) 5 C (some ⟨g', 0, none⟩) 5 C' (X.set k ps) Y) ∧ Hid (Cur (y.setCell ⟨g, k, none⟩ (.string ps)) B c a len cap zs) ∧ Hid (w.grownBy (y.setCell ⟨g, k, none⟩ (.string ps)) (some c))) := by
            refine ⟨fun x hx => ?_, (HSg.out y hby).2.1.putN k ps (by unfold maxLen; omega), (HSg.out y hby).2.2.1.put (by omega) _, gput (HSg.out y hby).2.2.2 (by omega) _⟩
            rcases List.mem_or_eq_of_mem_set hx with h | rfl
            · exact HX.out x h
            · exact hps
          clear hby q0 q1 hs e0 e2 k0 k1 m0 m1 m2 m3 m4 m5
          go_wp2_with fail
          go_meet
          exact ⟨rfl, _, HF.out⟩
      case rest =>
      obtain ⟨x6, hx6⟩ : ∃ x6, wc = x6 := ⟨_, rfl⟩
      rw [hx6] at hcut ⊢
      clear hx6 HSg HRd
      obtain ⟨rfl, X', HX', HD5, HC5, HG5⟩ := hcut
      go_wp2_with fail
      refine (l1Once_any B c a len cap zs 2 x6 HC5.out hl (by omega) (by omega)).mono ?_
      rintro _ x7 ⟨b2, rfl, hc7, hg7⟩
      have HC7 : Hid (Cur x7 B c a len cap zs) := hc7
      have HG7 : Hid (w.grownBy x7 (some c)) := gtrans HG5.out hg7
      have HD7 : Hid (DV w x7 b (some ⟨g, 0, none⟩) 5 C (some ⟨g', 0, none⟩) 5 C' X' Y) := HD5.out.grown hg7 (fun q e => by injection e with e; omega)
      clear hc7 hg7 HD5 HC5 HG5
      cases b2
      · go_wp2_with fail
        go_roundw
        case rel => exact ⟨k + 1, X', Y, by go_num, by omega, HX', HD7, HC7, HG7⟩
        case measure => simp [intOf]; omega
      · go_upto_region 10 with fail
        obtain ⟨c0, c1⟩ := HD7.out.1.cells
        obtain ⟨s, hs, e0, _⟩ := ownSt_cell HD7.out.2.2.1 hk
        obtain ⟨s', _, e1, e2⟩ := ownSt_cell HD7.out.2.2.2.1 hk
        have hs48 : s.size ≤ 48 := HX'.out s (List.mem_of_getElem? hs)
        have d0 : x7.drew.cell? ⟨b, 0, none⟩ = some (.slice (some ⟨g, 0, none⟩) 5 C) := c0
        have d1' : x7.drew.cell? ⟨b, 1, none⟩ = some (.slice (some ⟨g', 0, none⟩) 5 C') := c1
        have d2 : x7.drew.cell? ⟨g, k, none⟩ = some (.string s) := e0
        have d3 : x7.drew.cell? ⟨g', k, none⟩ = some (.string s') := e1
        have d4 : x7.drew.frozen? ⟨g', k, none⟩ = false := e2
        have HD8 : Hid (DV w (x7.setCell ⟨g', k, none⟩ (.string s)).drew b (some ⟨g, 0, none⟩) 5 C (some ⟨g', 0, none⟩) 5 C' X' (Y.set k s)) := (HD7.out.putS k s (by unfold maxLen; omega)).stays (Below.refl _ _).drew
        have hgl' : w.heap.size + 1 ≤ g' := (HD7.out.2.2.2.1.lt g' rfl).1
        have HC8 : Hid (Cur (x7.setCell ⟨g', k, none⟩ (.string s)).drew B c a len cap zs) := (HC7.out.put (by omega) _).kept (gbelow (Below.refl _ _).drew none) (by simp)
        have HG8 : Hid (w.grownBy (x7.setCell ⟨g', k, none⟩ (.string s)).drew (some c)) := gtrans (gput HG7.out (by omega) _) (gbelow (Below.refl _ _).drew _)
        clear HD7 HC7 HG7 c0 c1 e0 e1 e2 hs
        refine wp_region_still_tail 8 (by kernel_rfl) (by kernel_rfl) ?_
        simp only [List.take_succ_cons, List.take_zero, List.drop_succ_cons, List.drop_zero]
        repeat still_step
        refine wpStill_nil ?_
        go_wp2_with fail
        go_roundw
        case rel => exact ⟨k + 1, X', Y.set k s, by go_num, by omega, HX', HD8, HC8, HG8⟩
        case measure => simp [intOf]; omega


end Go.Proofs.YtenkpgnkkkgdmaeDoor
