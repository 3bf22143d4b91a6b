/- A drawn disk. For codes of at most 2^40 bytes. -/
import Derived.Test.YtnbmlkkjgecigaeDrawDskV
import Derived.Test.YtnbmlkkjgecigaeDrawDskS
import Derived.Test.YtnbmlkkjgecigaeDrawOnce
import Derived.Test.YtnbmlkkjgecigaeDskNewS
import Derived.Test.YtnbmlkkjgecigaeDskPutS
import Derived.Test.YtnbmlkkjgecigaeDskFlushS
import Derived.Deep.CutBlock
import Derived.Deep.RegionHeld3
namespace Go.Proofs.Ytnbmlkkjgecigae
open Go.RowKit
set_option linter.unusedVariables false

set_option maxRecDepth 10000 in
set_option maxHeartbeats 3200000 in
theorem l12Draw_any (B c : Nat) (a : Option Addr) (len cap : Nat) (zs : List Int) (w : World) (hcur : Cur w B c a len cap zs) (hl : len ≤ 1099511627776) :
    Calls Try.prog 28 #[.pointer (some ⟨c, 0, none⟩)] w fun e w' => (∃ v, e = .returned v ∧ DrawnD w.heap.size 6 v w') ∧ Cur w' B c a len cap zs ∧ w.grownBy w' (some c) := by
  have HC : Hid (Cur w B c a len cap zs) := hcur
  clear hcur
  have hcw : c < w.heap.size := HC.out.lt
  obtain ⟨w1, hw1⟩ : ∃ w1, w.alloc (.cells #[.slice none 0 0, .slice none 0 0] 26) = w1 := ⟨_, rfl⟩
  have HE : Hid (w.alloc (.cells #[.slice none 0 0, .slice none 0 0] 26) = w1) := hw1
  have HQ1 : Hid (Box2R w1 w.heap.size 26 (.slice none 0 0) (.slice none 0 0)) := by show Box2R _ _ _ _ _; rw [← hw1]; exact Box2R.new _ _ _ _
  have HC1 : Hid (Cur w1 B c a len cap zs) := by show Cur _ _ _ _ _ _ _; rw [← hw1]; exact HC.out.new _
  have HG1 : Hid (w.grownBy w1 (some c)) := by show World.grownBy _ _ _; rw [← hw1]; exact World.grownBy_alloc w _ _
  clear hw1 HC
  go_enter Try.func28, Try.ntmps28
  go_upto_region 1 with fail
  rw [HE.out]
  clear HE
  have hc1w : c < w1.heap.size := HC1.out.lt
  go_wp2_with fail
  refine (l1Int_any B c a len cap zs w1.heap.size 4 4 [4, 1, 0, 6] _ (HC1.out.new _) hl (heap_alloc_new w1 _) (by omega) rfl (by omega) (by omega)).mono ?_
  rintro e w2 ⟨x, rfl, hx, hc2, hg2⟩
  have HN : Hid (newN x ≤ 6) := by
    show _ ≤ _
    have hx6 : x ≤ 6 := by
      simp only [List.mem_cons, List.not_mem_nil, or_false] at hx
      omega
    rw [newN, if_pos (by omega)]
    omega
  have HC2 : Hid (Cur w2 B c a len cap zs) := hc2
  have hg12 : w1.grownBy w2 (some c) := gtrans (World.grownBy_alloc w1 _ _) hg2
  have HG2 : Hid (w.grownBy w2 (some c)) := gtrans HG1.out hg12
  have HQ2 : Hid (Box2R w2 w.heap.size 26 (.slice none 0 0) (.slice none 0 0)) := HQ1.out.grown hg12 (fun e => by injection e with e; omega)
  clear hx hc2 hg2 hg12 HC1 HG1 HQ1 hc1w
  go_wp2_with fail
  refine (specDnew_any x w2).mono ?_
  rintro e w3 ⟨⟨v, rfl, A, C, A', C', rfl, o1, o2, hap⟩, hb3⟩
  generalize hn : newN x = n at *
  rw [List.length_replicate] at o1 o2 ⊢
  have HD3 : Hid (DV w (w3.alloc (.cells #[.slice A n C, .slice A' n C'] 26)) w3.heap.size A n C A' n C' (List.replicate n ⟨#[]⟩) (List.replicate n ⟨#[]⟩)) := DV.new HQ2.out hb3 o1 o2 hap
  have HC3 : Hid (Cur (w3.alloc (.cells #[.slice A n C, .slice A' n C'] 26)) B c a len cap zs) := (HC2.out.kept (gbelow hb3 none) (by simp)).new _
  have HG3 : Hid (w.grownBy (w3.alloc (.cells #[.slice A n C, .slice A' n C'] 26)) (some c)) := gnew (gtrans HG2.out (gbelow hb3 _)) _
  clear hn o1 o2 hap hb3 HC2 HG2 HQ2
  have hn6 := HN.out
  go_wp2_with fail
  obtain ⟨w4, hw4⟩ : ∃ w4, w3.alloc (.cells #[.slice A n C, .slice A' n C'] 26) = w4 := ⟨_, rfl⟩
  rw [hw4] at HD3 HC3 HG3 ⊢
  clear hw4
  generalize w3.heap.size = b at *
  refine (l1Below_any B c a len cap zs 6 w4 HC3.out hl (by omega) (by omega)).mono ?_
  rintro e w5 ⟨m, rfl, hm0, hm1, hc5, hg5⟩
  obtain ⟨M, rfl⟩ := Int.eq_ofNat_of_zero_le hm0
  have HD5 : Hid (∃ X Y, DV w w5 b A n C A' n C' X Y) := ⟨_, _, HD3.out.grown hg5 (fun q e => by injection e with e; omega)⟩
  have HC5 : Hid (Cur w5 B c a len cap zs) := hc5
  have HG5 : Hid (w.grownBy w5 (some c)) := gtrans HG3.out hg5
  clear hc5 hg5 HD3 HC3 HG3
  go_wp2_with fail
  go_loopw [4] (fun v wr => ∃ (j : Nat) (A A' : Option Addr) (C C' : Nat) (X Y : List ByteArray), v = .int .i64 (j : Int) ∧ j ≤ 6 ∧ Hid (wr.cell? ⟨b, 0, none⟩ = some (.slice A n C)) ∧ Hid (DV w wr b A n C A' n C' X Y) ∧ Hid (Cur wr B c a len cap zs) ∧ Hid (w.grownBy wr (some c))) (fun v _ => (intOf v).toNat)
  case atStart =>
    obtain ⟨X, Y, hd⟩ := HD5.out
    exact ⟨M, A, A', C, C', X, Y, rfl, by omega, hd.1.cells.1, hd, HC5, HG5⟩
  case round =>
    clear HD5 HC5 HG5
    obtain ⟨j, A, A', C, C', X, Y, rfl, hj6, HK, HD, HC, HG⟩ := hrel
    obtain ⟨c0, c1⟩ := HD.out.1.cells
    by_cases hend : j = 0 ∨ n = 0
    · obtain ⟨r0, r1⟩ := HD.out.2.1.cells
      have f0 := HD.out.2.1.frozen 0
      have f1 := HD.out.2.1.frozen 1
      have HR : Hid (DrawnD w.heap.size 6 (.agg #[.slice A n C, .slice A' n C']) ((wr.setCell ⟨w.heap.size, 0, none⟩ (.slice A n C)).setCell ⟨w.heap.size, 1, none⟩ (.slice A' n C')) ∧ Cur ((wr.setCell ⟨w.heap.size, 0, none⟩ (.slice A n C)).setCell ⟨w.heap.size, 1, none⟩ (.slice A' n C')) B c a len cap zs ∧ w.grownBy ((wr.setCell ⟨w.heap.size, 0, none⟩ (.slice A n C)).setCell ⟨w.heap.size, 1, none⟩ (.slice A' n C')) (some c)) := by
        have l1 := HD.out.2.2.1.len
        have l2 := HD.out.2.2.2.1.len
        exact ⟨⟨X, Y, HD.out.done, by omega, by omega⟩, (HC.out.put hcw _).put hcw _, gput (gput HG.out (Nat.le_refl _) _) (Nat.le_refl _) _⟩
      clear HD HC HG HK
      by_cases hj : j = 0
      · subst hj
        go_wp2_with fail
        refine bodyPost_ret (v := .agg #[.slice A n C, .slice A' n C']) (by simp [results, Try.f28, go_sem, r0, r1]) rfl ?_
        exact ⟨⟨_, rfl, HR.out.1⟩, HR.out.2⟩
      · have hji : (0 : Int) < (j : Int) := by omega
        obtain rfl : n = 0 := by omega
        go_wp2_with fail
        refine bodyPost_ret (v := .agg #[.slice A 0 C, .slice A' 0 C']) (by simp [results, Try.f28, go_sem, r0, r1]) rfl ?_
        exact ⟨⟨_, rfl, HR.out.1⟩, HR.out.2⟩
    have hji : (0 : Int) < (j : Int) := by omega
    have hni : (0 : Int) < (n : Int) := by omega
    have HL : Hid (X.length = n ∧ Y.length = n) := ⟨HD.out.2.2.1.len, HD.out.2.2.2.1.len⟩
    have HDd : Hid (DV w wr.drew b A n C A' n C' X Y) := HD.out.stays (Below.refl _ _).drew
    have HCd : Hid (Cur wr.drew B c a len cap zs) := HC.out.kept (gbelow (Below.refl _ _).drew none) (by simp)
    have HGd : Hid (w.grownBy wr.drew (some c)) := gtrans HG.out (gbelow (Below.refl _ _).drew _)
    clear HD HC HG HK hend
    go_upto_region 5 with fail
    go_cut [37] from 11 (fun u W => u = undef ∧ ∃ A A' C C' X Y, Hid (DV w W b A n C A' n C' X Y) ∧ Hid (Cur W B c a len cap zs) ∧ Hid (w.grownBy W (some c)))
    case first =>
      go_region_with (first
        | (go_at_call 14; refine (specPutD_any A n C X A' n C' Y (x : Int) s _ hD2.2.2.1.strs hD2.2.2.2.1.strs (by omega) (by omega) (by unfold maxLen; omega)).mono ?_; rintro e y3 ⟨⟨v, rfl, hans⟩, hb3⟩
           obtain ⟨A3, C3, A3', C3', rfl, o1, o2, hap⟩ := hans.at (n := n) (n' := n) (by rw [putX_len]; exact HL.out.1) HL.out.2
           have hD3 := hD2.stays hb3
           obtain ⟨p0, p1⟩ := hD3.1.cells
           have f0 := hD3.1.frozen 0
           have f1 := hD3.1.frozen 1)
        | (go_at_call 22; refine (l12Some_any B c a len cap zs _ hC1 hl).mono ?_; rintro e y2 ⟨s, rfl, hs3, hC2, hg2⟩
           have hD2 := hD1.grown hg2 (fun q e => by injection e with e; omega)
           have hG2 := gtrans hG1 hg2
           obtain ⟨m0, m1⟩ := hD2.1.cells)
        | (go_at_call 24; refine (l1Below_any B c a len cap zs (n : Int) _ HCd.out hl (by omega) (by omega)).mono ?_; rintro e y1 ⟨x, rfl, hx0, hx1, hC1, hg1⟩
           have hD1 := HDd.out.grown hg1 (fun q e => by injection e with e; omega)
           have hG1 := gtrans HGd.out hg1
           obtain ⟨e0, e1⟩ := hD1.1.cells)
        | fail)
      all_goals
        have HF : Hid (DV w ((y3.setCell ⟨b, 0, none⟩ (.slice A3 n C3)).setCell ⟨b, 1, none⟩ (.slice A3' n C3')) b A3 n C3 A3' n C3' (putX X Y x s) Y ∧ Cur ((y3.setCell ⟨b, 0, none⟩ (.slice A3 n C3)).setCell ⟨b, 1, none⟩ (.slice A3' n C3')) B c a len cap zs ∧ w.grownBy ((y3.setCell ⟨b, 0, none⟩ (.slice A3 n C3)).setCell ⟨b, 1, none⟩ (.slice A3' n C3')) (some c)) := by
          have hbw := hD2.2.2.2.2.2.2
          exact ⟨hD2.assign hb3 o1 o2 hap, ((hC2.kept (gbelow hb3 none) (by simp)).put (by omega) _).put (by omega) _, gput (gput (gtrans hG2 (gbelow hb3 _)) (by omega) _) (by omega) _⟩
        clear hD1 hD2 hD3 hC1 hC2 hg1 hg2 hG1 hG2 o1 o2 hap hb3 hans e0 e1 m0 m1
        go_wp2_with fail
        go_meet
        exact ⟨rfl, A3, A3', C3, C3', _, _, HF.out.1, HF.out.2.1, HF.out.2.2⟩
    case rest =>
    obtain ⟨x6, hx6⟩ : ∃ x6, wc = x6 := ⟨_, rfl⟩
    rw [hx6] at hcut ⊢
    clear hx6 HDd HCd HGd HL c0 c1
    obtain ⟨rfl, A, A', C, C', X, Y, HD, HC, HG⟩ := hcut
    go_wp2_with fail
    refine (l1Once_any B c a len cap zs 3 x6 HC.out hl (by omega) (by omega)).mono ?_
    rintro e w7 ⟨bb, rfl, hc7, hg7⟩
    have HD7 : Hid (DV w w7 b A n C A' n C' X Y) := HD.out.grown hg7 (fun q e => by injection e with e; omega)
    have HC7 : Hid (Cur w7 B c a len cap zs) := hc7
    have HG7 : Hid (w.grownBy w7 (some c)) := gtrans HG.out hg7
    clear hc7 hg7 HD HC HG
    obtain ⟨c0, c1⟩ := HD7.out.1.cells
    cases bb
    · go_wp2_with fail
      go_roundw
      case rel => exact ⟨j - 1, A, A', C, C', X, Y, by go_num, by omega, c0, HD7, HC7, HG7⟩
      case measure => simp [intOf]; omega
    · have HL : Hid (X.length = n) := HD7.out.2.2.1.len
      go_wp2_with fail
      refine (specFlush_any A n C X A' n C' Y w7 HD7.out.2.2.1.strs HD7.out.2.2.2.1.strs (by omega) (by omega)).mono ?_
      rintro e w8 ⟨⟨v, rfl, hans⟩, hb8⟩
      obtain ⟨A8, C8, A8', C8', rfl, o1, o2, hap⟩ := hans.at (n := n) (n' := n) HL.out HL.out
      have HF : Hid (DV w ((w8.setCell ⟨b, 0, none⟩ (.slice A8 n C8)).setCell ⟨b, 1, none⟩ (.slice A8' n C8')) b A8 n C8 A8' n C8' X X ∧ Cur ((w8.setCell ⟨b, 0, none⟩ (.slice A8 n C8)).setCell ⟨b, 1, none⟩ (.slice A8' n C8')) B c a len cap zs ∧ w.grownBy ((w8.setCell ⟨b, 0, none⟩ (.slice A8 n C8)).setCell ⟨b, 1, none⟩ (.slice A8' n C8')) (some c)) := by
        have hbw := HD7.out.2.2.2.2.2.2
        exact ⟨HD7.out.assign hb8 o1 o2 hap, ((HC7.out.kept (gbelow hb8 none) (by simp)).put (by omega) _).put (by omega) _, gput (gput (gtrans HG7.out (gbelow hb8 _)) (by omega) _) (by omega) _⟩
      have hD8 := HD7.out.stays hb8
      obtain ⟨p0, p1⟩ := hD8.1.cells
      have f0 := hD8.1.frozen 0
      have f1 := hD8.1.frozen 1
      clear hD8 o1 o2 hap hb8 hans HD7 HC7 HG7 c0 c1
      go_wp2_with fail
      go_roundw
      case rel => exact ⟨j - 1, A8, A8', C8, C8', X, X, by go_num, by omega, HF.out.1.1.cells.1, HF.out.1, HF.out.2.1, HF.out.2.2⟩
      case measure => simp [intOf]; omega

end Go.Proofs.Ytnbmlkkjgecigae
