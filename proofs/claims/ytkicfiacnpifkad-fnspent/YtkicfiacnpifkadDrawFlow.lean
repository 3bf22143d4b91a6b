/- The draw of a flow: by the specification's own doings. -/
import Derived.Test.YtkicfiacnpifkadDrawFlowA
import Derived.Test.YtkicfiacnpifkadFlowNewS
import Derived.Test.YtkicfiacnpifkadFlowOpenS
import Derived.Test.YtkicfiacnpifkadFlowSpendS
import Derived.Test.YtkicfiacnpifkadFlowGrantS
import Derived.Test.YtkicfiacnpifkadFlowInitS
import Derived.Deep.CutBlock
import Derived.Deep.RegionWith
namespace Go.Proofs.Ytkicfiacnpifkad
open Go.RowKit
set_option linter.unusedVariables false

set_option maxRecDepth 10000 in
set_option maxHeartbeats 6400000 in
theorem l10Draw_any (B cc : Nat) (a : Option Addr) (len cap : Nat) (zs : List Int) (w : World) (hcur : Cur w B cc a len cap zs) (hl : len ≤ 1099511627776) :
    Calls Try.prog 50 #[.pointer (some ⟨cc, 0, none⟩)] w fun e w' => ∃ (c i : Int) (A : Option Addr) (n C : Nat) (l : List Lane), e = .returned (.agg #[.int .i64 c, .int .i64 i, .slice A n C]) ∧ n ≤ 5 ∧ i64b c ∧ i64b i ∧ OwnL w' w.heap.size A n C l ∧ Cur w' B cc a len cap zs ∧ w.grownBy w' (some cc) := by
  have hcl : cc < w.heap.size := hcur.lt
  have HC0 : Hid (Cur w B cc a len cap zs) := hcur
  clear hcur
  have HNil : Hid (∀ (W : World) (b : Nat), OwnL W b none 0 0 []) := fun W b => ⟨⟨rfl, .inl ⟨rfl, rfl⟩⟩, by simp⟩
  have HR0 : Hid (Box3 (w.alloc (.cells #[.int .i64 0, .int .i64 0, .slice none 0 0] 36)) w.heap.size 36 (.int .i64 0) (.int .i64 0) (.slice none 0 0)) := Box3.new _ _ _ _ _
  go_enter Try.func50, Try.ntmps50
  go_upto_region 1 with fail
  obtain ⟨w1, hw1⟩ : ∃ w1, w.alloc (.cells #[.int .i64 0, .int .i64 0, .slice none 0 0] 36) = w1 := ⟨_, rfl⟩
  have HC1 : Hid (Cur w1 B cc a len cap zs) := by show Cur _ _ _ _ _ _ _; rw [← hw1]; exact HC0.out.new _
  have HG1 : Hid (w.grownBy w1 (some cc)) := by show World.grownBy _ _ _; rw [← hw1]; exact World.grownBy_alloc _ _ _
  have HZ1 : Hid (w1.heap.size = w.heap.size + 1) := by show _ = _; rw [← hw1]; simp
  rw [hw1] at HR0 ⊢
  clear hw1 HC0
  go_wp2_with fail
  refine (l1Int_any _ _ a len cap zs w1.heap.size 4 4 [100, 65535, 0, 10] _ (HC1.out.new _) hl (heap_alloc_new w1 _) (by have := HZ1.out; omega) rfl (by omega) (by omega)).mono ?_
  rintro e w2 ⟨x, rfl, hx, hc2, hg2⟩
  have HC2 : Hid (Cur w2 B cc a len cap zs) := hc2
  have HG2 : Hid (w.grownBy w2 (some cc)) := gtrans (gnew HG1.out _) hg2
  have HR2 : Hid (Box3 w2 w.heap.size 36 (.int .i64 0) (.int .i64 0) (.slice none 0 0)) := (HR0.out.alloc _).grown hg2 (fun e => by injection e with e; omega)
  clear hc2 hg2 HC1 HG1 HR0
  go_wp2_with fail
  refine (specFnew_any x w2).mono ?_
  rintro e w3 ⟨rfl, hb3⟩
  have HNb : Hid (i64b (newF x).1 ∧ i64b (newF x).2) := by
    show _ ∧ _
    unfold newF i64b
    split
    · dsimp only; omega
    · dsimp only; omega
  generalize newF x = r at *
  obtain ⟨nc, ni⟩ := r
  dsimp only at HNb ⊢
  have HD3 : Hid (DFl w (w3.alloc (.cells #[.int .i64 nc, .int .i64 ni, .slice none 0 0] 36)) B cc a len cap zs w.heap.size w3.heap.size nc ni none 0 0 []) := by
    have h1 := HR2.out.stays hb3
    have h2 := HC2.out.kept (gbelow hb3 none) (by simp)
    exact ⟨h2.new _, gnew (gown HG2.out (gbelow hb3 none) (by simp)) _, ⟨hcl, Nat.le_refl _, h1.lt⟩, Box3.new _ _ _ _ _, h1.alloc _, HNil.out _ _, HNb.out⟩
  clear hx hb3 HC2 HG2 HR2 HNb HZ1
  go_upto_region 2 with fail
  obtain ⟨w4, hw4⟩ : ∃ w4, w3.alloc (.cells #[.int .i64 nc, .int .i64 ni, .slice none 0 0] 36) = w4 := ⟨_, rfl⟩
  rw [hw4] at HD3 ⊢
  clear hw4
  generalize w3.heap.size = fb at *
  go_wp2_with fail
  refine (l1Below_any _ _ a len cap zs 6 _ HD3.out.1 hl (by omega) (by omega)).mono ?_
  rintro e w5 ⟨M, rfl, hm0, hm1, hc5, hg5⟩
  have HD5 : Hid (DFl w w5 B cc a len cap zs w.heap.size fb nc ni none 0 0 []) := HD3.out.call hc5 hg5
  obtain ⟨M, rfl⟩ := Int.eq_ofNat_of_zero_le hm0
  clear hc5 hg5 HD3
  go_wp2_with fail
  go_loopw [4] (fun v wr => ∃ (j : Nat) (c i : Int) (A : Option Addr) (n C : Nat) (l : List Lane), v = .int .i64 (j : Int) ∧ n + j ≤ 5 ∧ Hid (DFl w wr B cc a len cap zs w.heap.size fb c i A n C l)) (fun v _ => (intOf v).toNat)
  case atStart => exact ⟨M, nc, ni, none, 0, 0, [], rfl, by omega, HD5⟩
  case round =>
    clear HD5
    obtain ⟨j, c, i, A, n, C, l, rfl, hnj, HD⟩ := hrel
    by_cases hj : j = 0
    · subst hj
      obtain ⟨d0, d1, d2⟩ := HD.out.2.2.2.1.cells
      obtain ⟨g0, g1, g2⟩ := HD.out.2.2.2.2.1.cells
      have f0 := HD.out.2.2.2.2.1.frozen 0
      have f1 := HD.out.2.2.2.2.1.frozen 1
      have f2 := HD.out.2.2.2.2.1.frozen 2
      have hib := HD.out.2.2.2.2.2.2
      go_wp2
      refine bodyPost_ret (v := .agg #[.int .i64 c, .int .i64 i, .slice A n C]) (by simp [results, Try.f50, go_sem, g0, g1, g2]) rfl ?_
      exact ⟨c, i, A, n, C, l, rfl, by omega, hib.1, hib.2, HD.out.fin.2.2, HD.out.fin.1, HD.out.fin.2.1⟩
    · have hji : (0 : Int) < (j : Int) := by omega
      have hcwr : cc < wr.heap.size := HD.out.1.lt
      go_wp2_with fail
      refine (l1Int_any _ _ a len cap zs wr.heap.size 3 3 [1, 3, 5] _ (HD.out.new _).1 hl (heap_alloc_new wr _) (by omega) rfl (by omega) (by omega)).mono ?_
      rintro e w6 ⟨id, rfl, hid, hc6, hg6⟩
      have HD6 : Hid (DFl w w6 B cc a len cap zs w.heap.size fb c i A n C l) := (HD.out.new _).call hc6 hg6
      have HIb : Hid (i64b id) := by
        show _ ∧ _
        simp only [List.mem_cons, List.not_mem_nil, or_false] at hid
        omega
      clear hid hc6 hg6 HD
      go_wp2_with fail
      refine (l1Below_any _ _ a len cap zs 5 _ HD6.out.1 hl (by omega) (by omega)).mono ?_
      rintro e w7 ⟨d, rfl, hd0, hd1, hc7, hg7⟩
      have HD7 : Hid (DFl w w7 B cc a len cap zs w.heap.size fb c i A n C l) := HD6.out.call hc7 hg7
      clear hc7 hg7 HD6
      obtain ⟨hcb, hib⟩ := HD7.out.2.2.2.2.2.2
      have HCb : Hid (i64b c) := hcb
      have HIb2 : Hid (i64b i) := hib
      have HRm : Hid (n ≤ C) := HD7.out.room
      have HLn : Hid (l.length = n) := HD7.out.2.2.2.2.2.1.len
      clear hcb hib
      obtain ⟨d0, d1, d2⟩ := HD7.out.2.2.2.1.cells
      have hcw7 : cc < w7.heap.size := HD7.out.1.lt
      have hfb7 : fb < w7.heap.size := HD7.out.2.2.2.1.lt
      have hfn7 : ¬ fb = w7.heap.size := by omega
      have hfn8 : ¬ fb = w7.heap.size + 1 := by omega
      have hd5 : d = 0 ∨ d = 1 ∨ d = 2 ∨ d = 3 ∨ d = 4 := by omega
      clear hd0 hd1
      rcases hd5 with rfl | rfl | rfl | rfl | rfl
      · go_wp2_with fail
        refine (specOpen_any c i A n C l id _ HD7.out.2.2.2.2.2.1.lanes (by omega) HRm.out HIb2.out HIb.out).mono ?_
        rintro e y1 ⟨⟨A1, C1, rfl, ho1⟩, hb1⟩
        have HG := (show Hid (DFl w _ B cc a len cap zs w.heap.size fb _ _ A1 _ C1 _) from HD7.out.got hb1 ho1 (openR_b id HCb.out HIb2.out).1 (openR_b id HCb.out HIb2.out).2)
        have HRl : Hid ((openR c i l id).1.2.2.length ≤ n + 1) := by show _ ≤ _; rw [← HLn.out]; exact openR_l c i l id
        have hx := (HD7.out.stays hb1).2.2.2.1
        generalize openR c i l id = R at *
        obtain ⟨d0, d1, d2⟩ := hx.cells
        have f0 := hx.frozen 0
        have f1 := hx.frozen 1
        have f2 := hx.frozen 2
        clear hx ho1 hb1 HD7
        go_wp2_with fail
        go_roundw
        case rel => exact ⟨j - 1, R.1.1, R.1.2.1, A1, R.1.2.2.length, C1, R.1.2.2, by go_num, by have := HRl.out; omega, HG⟩
        case measure => simp [intOf]; omega
      · go_wp2_with fail
        refine (specOpen_any c i A n C l id _ HD7.out.2.2.2.2.2.1.lanes (by omega) HRm.out HIb2.out HIb.out).mono ?_
        rintro e y1 ⟨⟨A1, C1, rfl, ho1⟩, hb1⟩
        have HG := (show Hid (DFl w _ B cc a len cap zs w.heap.size fb _ _ A1 _ C1 _) from HD7.out.got hb1 ho1 (openR_b id HCb.out HIb2.out).1 (openR_b id HCb.out HIb2.out).2)
        have HRl : Hid ((openR c i l id).1.2.2.length ≤ n + 1) := by show _ ≤ _; rw [← HLn.out]; exact openR_l c i l id
        have hx := (HD7.out.stays hb1).2.2.2.1
        generalize openR c i l id = R at *
        obtain ⟨d0, d1, d2⟩ := hx.cells
        have f0 := hx.frozen 0
        have f1 := hx.frozen 1
        have f2 := hx.frozen 2
        clear hx ho1 hb1 HD7
        go_wp2_with fail
        go_roundw
        case rel => exact ⟨j - 1, R.1.1, R.1.2.1, A1, R.1.2.2.length, C1, R.1.2.2, by go_num, by have := HRl.out; omega, HG⟩
        case measure => simp [intOf]; omega
      · go_wp2_with fail
        go_region_with (first
          | (go_at_call 14; refine (specSpend_any c i A n C l id q _ hdy.2.2.2.2.2.1.lanes (by omega) HCb.out).mono ?_; rintro e y1 ⟨⟨A1, C1, rfl, ho1⟩, hb1⟩; obtain ⟨b0, b1, b2⟩ := (hdy.stays hb1).2.2.2.1.cells; have f0 := (hdy.stays hb1).2.2.2.1.frozen 0; have f1 := (hdy.stays hb1).2.2.2.1.frozen 1; have f2 := (hdy.stays hb1).2.2.2.1.frozen 2)
          | (go_at_call 28; refine (l1Int_any _ _ a len cap zs w7.heap.size 3 3 [1, 10, 50] _ (HD7.out.new _).drew.1 hl (heap_alloc_new w7 _) (by omega) rfl (by omega) (by omega)).mono ?_; rintro e y ⟨q, rfl, hq, hcy, hgy⟩; have hdy := (HD7.out.new _).drew.call hcy hgy; obtain ⟨k0, k1, k2⟩ := hdy.2.2.2.1.cells)
          | fail)
        all_goals
          have HG := (show Hid (DFl w _ B cc a len cap zs w.heap.size fb _ _ A1 _ C1 _) from hdy.got hb1 ho1 (spendR_b id q HCb.out HIb2.out).1 (spendR_b id q HCb.out HIb2.out).2)
          have HRl : Hid ((spendR c i l id q).1.2.2.length ≤ n + 1) := by show _ ≤ _; have h1 := spendR_l c i l id q; have h2 := HLn.out; omega
          generalize spendR c i l id q = R at *
          clear ho1 hb1 hdy
          go_wp2_with fail
          go_roundw
          case rel => exact ⟨j - 1, R.1.1, R.1.2.1, A1, R.1.2.2.length, C1, R.1.2.2, by go_num, by have := HRl.out; omega, HG⟩
          case measure => simp [intOf]; omega
      · have HH1 : Hid (((w7.alloc (.cells #[.int .i64 0, .int .i64 id] 3)).alloc (.cells #[.int .i64 1, .int .i64 100] 3)).drew.heap[w7.heap.size]? = some (.cells #[.int .i64 0, .int .i64 id] 3)) := (heap_alloc_old (w7.alloc (.cells #[.int .i64 0, .int .i64 id] 3)) (.cells #[.int .i64 1, .int .i64 100] 3) (by simp)).trans (heap_alloc_new w7 _)
        have HH2 : Hid (((w7.alloc (.cells #[.int .i64 0, .int .i64 id] 3)).alloc (.cells #[.int .i64 1, .int .i64 100] 3)).drew.heap[w7.heap.size + 1]? = some (.cells #[.int .i64 1, .int .i64 100] 3)) := (by have h := heap_alloc_new (w7.alloc (.cells #[.int .i64 0, .int .i64 id] 3)) (.cells #[.int .i64 1, .int .i64 100] 3); rw [World.size_alloc] at h; exact h)
        have HH3 : Hid (((w7.alloc (.cells #[.int .i64 1, .int .i64 100] 3)).alloc (.cells #[.int .i64 0, .int .i64 id] 3)).drew.heap[w7.heap.size + 1]? = some (.cells #[.int .i64 0, .int .i64 id] 3)) := (by have h := heap_alloc_new (w7.alloc (.cells #[.int .i64 1, .int .i64 100] 3)) (.cells #[.int .i64 0, .int .i64 id] 3); rw [World.size_alloc] at h; exact h)
        have HH4 : Hid (((w7.alloc (.cells #[.int .i64 1, .int .i64 100] 3)).alloc (.cells #[.int .i64 0, .int .i64 id] 3)).drew.heap[w7.heap.size]? = some (.cells #[.int .i64 1, .int .i64 100] 3)) := (heap_alloc_old (w7.alloc (.cells #[.int .i64 1, .int .i64 100] 3)) (.cells #[.int .i64 0, .int .i64 id] 3) (by simp)).trans (heap_alloc_new w7 _)
        have HKa : Hid (Calls Try.prog 28 #[.pointer (some ⟨cc, 0, none⟩), .slice (some ⟨w7.heap.size, 0, none⟩) 2 2] ((w7.alloc (.cells #[.int .i64 0, .int .i64 id] 3)).drew) (fun e w' => ∃ v : Int, e = .returned (.int .i64 v) ∧ v ∈ [0, id] ∧ Cur w' B cc a len cap zs ∧ World.grownBy ((w7.alloc (.cells #[.int .i64 0, .int .i64 id] 3)).drew) w' (some cc))) := l1Int_any _ _ a len cap zs w7.heap.size 2 2 [0, id] _ (HD7.out.new _).drew.1 hl (heap_alloc_new w7 _) (by omega) rfl (by omega) (by omega)
        have HKb : Hid (Calls Try.prog 28 #[.pointer (some ⟨cc, 0, none⟩), .slice (some ⟨w7.heap.size, 0, none⟩) 2 2] (((w7.alloc (.cells #[.int .i64 0, .int .i64 id] 3)).alloc (.cells #[.int .i64 1, .int .i64 100] 3)).drew) (fun e w' => ∃ v : Int, e = .returned (.int .i64 v) ∧ v ∈ [0, id] ∧ Cur w' B cc a len cap zs ∧ World.grownBy (((w7.alloc (.cells #[.int .i64 0, .int .i64 id] 3)).alloc (.cells #[.int .i64 1, .int .i64 100] 3)).drew) w' (some cc))) := l1Int_any _ _ a len cap zs w7.heap.size 2 2 [0, id] _ ((HD7.out.new _).new _).drew.1 hl HH1.out (by omega) rfl (by omega) (by omega)
        have HKc : Hid (Calls Try.prog 28 #[.pointer (some ⟨cc, 0, none⟩), .slice (some ⟨w7.heap.size + 1, 0, none⟩) 2 2] (((w7.alloc (.cells #[.int .i64 1, .int .i64 100] 3)).alloc (.cells #[.int .i64 0, .int .i64 id] 3)).drew) (fun e w' => ∃ v : Int, e = .returned (.int .i64 v) ∧ v ∈ [0, id] ∧ Cur w' B cc a len cap zs ∧ World.grownBy (((w7.alloc (.cells #[.int .i64 1, .int .i64 100] 3)).alloc (.cells #[.int .i64 0, .int .i64 id] 3)).drew) w' (some cc))) := l1Int_any _ _ a len cap zs (w7.heap.size + 1) 2 2 [0, id] _ ((HD7.out.new _).new _).drew.1 hl HH3.out (by omega) rfl (by omega) (by omega)
        have HL2 : Hid (∀ (W : World) (b : Nat), Cur W B cc a len cap zs → W.heap[b]? = some (.cells #[.int .i64 1, .int .i64 100] 3) → b ≠ cc → Calls Try.prog 28 #[.pointer (some ⟨cc, 0, none⟩), .slice (some ⟨b, 0, none⟩) 2 2] (W) (fun e w' => ∃ v : Int, e = .returned (.int .i64 v) ∧ v ∈ [1, 100] ∧ Cur w' B cc a len cap zs ∧ World.grownBy (W) w' (some cc))) := fun W b h1 h2 h3 => l1Int_any _ _ a len cap zs b 2 2 [1, 100] W h1 hl h2 h3 rfl (by omega) (by omega)
        go_wp2_with fail
        go_region_with (first
          | (go_at_call 59; refine (specGrant_any c i A n C l q q2 _ hdz.2.2.2.2.2.1.lanes (by omega)).mono ?_; rintro e y1 ⟨⟨A1, C1, rfl, ho1⟩, hb1⟩; obtain ⟨b0, b1, b2⟩ := (hdz.stays hb1).2.2.2.1.cells; have f0 := (hdz.stays hb1).2.2.2.1.frozen 0; have f1 := (hdz.stays hb1).2.2.2.1.frozen 1; have f2 := (hdz.stays hb1).2.2.2.1.frozen 2)
          | (go_at_call 28; (with_reducible refine HZb.mono ?_); rintro e z ⟨q2, rfl, hq2, hcz, hgz⟩; have hdz := hdy.call hcz hgz; obtain ⟨k0, k1, k2⟩ := hdz.2.2.2.1.cells; have hflz : fb < z.heap.size := hdz.2.2.2.1.lt; have hfnz : ¬ fb = z.heap.size := (by omega))
          | (go_at_call 28; (with_reducible refine HZc.mono ?_); rintro e z ⟨q2, rfl, hq2, hcz, hgz⟩; have hdz := hdy.call hcz hgz; obtain ⟨k0, k1, k2⟩ := hdz.2.2.2.1.cells; have hflz : fb < z.heap.size := hdz.2.2.2.1.lt; have hfnz : ¬ fb = z.heap.size := (by omega))
          | (go_at_call 28; (with_reducible refine HZa.mono ?_); rintro e z ⟨q2, rfl, hq2, hcz, hgz⟩; have hdz := (hdy.new _).call hcz hgz; obtain ⟨k0, k1, k2⟩ := hdz.2.2.2.1.cells; have hflz : fb < z.heap.size := hdz.2.2.2.1.lt; have hfnz : ¬ fb = z.heap.size := (by omega))
          | (go_at_call 28; (with_reducible refine HKa.out.mono ?_); rintro e y ⟨q, rfl, hq, hcy, hgy⟩; have hdy := (HD7.out.new _).drew.call hcy hgy; obtain ⟨k0, k1, k2⟩ := hdy.2.2.2.1.cells; have hfly : fb < y.heap.size := hdy.2.2.2.1.lt; have hfny : ¬ fb = y.heap.size := (by omega); have hcly : cc < y.heap.size := hdy.1.lt; have HZa := HL2.out (y.alloc (.cells #[.int .i64 1, .int .i64 100] 3)) y.heap.size (hdy.new _).1 (heap_alloc_new y _) (by omega))
          | (go_at_call 28; (with_reducible refine HKb.out.mono ?_); rintro e y ⟨q, rfl, hq, hcy, hgy⟩; have hdy := ((HD7.out.new _).new _).drew.call hcy hgy; obtain ⟨k0, k1, k2⟩ := hdy.2.2.2.1.cells; have hfly : fb < y.heap.size := hdy.2.2.2.1.lt; have hfny : ¬ fb = y.heap.size := (by omega); have hcly : cc < y.heap.size := hdy.1.lt; have HZb := HL2.out y (w7.heap.size + 1) hdy.1 ((hgy.block (w7.heap.size + 1) (by simp) (by intro e; injection e with e; omega)).trans HH2.out) (by omega))
          | (go_at_call 28; (with_reducible refine HKc.out.mono ?_); rintro e y ⟨q, rfl, hq, hcy, hgy⟩; have hdy := ((HD7.out.new _).new _).drew.call hcy hgy; obtain ⟨k0, k1, k2⟩ := hdy.2.2.2.1.cells; have hfly : fb < y.heap.size := hdy.2.2.2.1.lt; have hfny : ¬ fb = y.heap.size := (by omega); have hcly : cc < y.heap.size := hdy.1.lt; have HZc := HL2.out y w7.heap.size hdy.1 ((hgy.block w7.heap.size (by simp; omega) (by intro e; injection e with e; omega)).trans HH4.out) (by omega))

          | fail)
        all_goals
          have HG := (show Hid (DFl w _ B cc a len cap zs w.heap.size fb _ _ A1 _ C1 _) from hdz.got hb1 ho1 (grantR_b q q2 HCb.out HIb2.out).1 (grantR_b q q2 HCb.out HIb2.out).2)
          have HRl : Hid ((grantR c i l q q2).1.2.2.length ≤ n + 1) := by show _ ≤ _; have h1 := grantR_l c i l q q2; have h2 := HLn.out; omega
          generalize grantR c i l q q2 = R at *
          clear ho1 hb1 hdz
          go_wp2_with fail
          go_roundw
          case rel => exact ⟨j - 1, R.1.1, R.1.2.1, A1, R.1.2.2.length, C1, R.1.2.2, by go_num, by have := HRl.out; omega, HG⟩
          case measure => simp [intOf]; omega
      · go_wp2_with fail
        go_region_with (first
          | (go_at_call 24; refine (specInit_any c i A n C l q _ hdy.2.2.2.2.2.1.lanes (by omega)).mono ?_; rintro e y1 ⟨⟨A1, C1, rfl, ho1⟩, hb1⟩; obtain ⟨b0, b1, b2⟩ := (hdy.stays hb1).2.2.2.1.cells; have f0 := (hdy.stays hb1).2.2.2.1.frozen 0; have f1 := (hdy.stays hb1).2.2.2.1.frozen 1; have f2 := (hdy.stays hb1).2.2.2.1.frozen 2)
          | (go_at_call 28; refine (l1Int_any _ _ a len cap zs w7.heap.size 3 3 [0, 50, 200] _ (HD7.out.new _).drew.1 hl (heap_alloc_new w7 _) (by omega) rfl (by omega) (by omega)).mono ?_; rintro e y ⟨q, rfl, hq, hcy, hgy⟩; have hdy := (HD7.out.new _).drew.call hcy hgy; obtain ⟨k0, k1, k2⟩ := hdy.2.2.2.1.cells)
          | fail)
        all_goals
          have HG := (show Hid (DFl w _ B cc a len cap zs w.heap.size fb _ _ A1 _ C1 _) from hdy.got hb1 ho1 (initR_b q HCb.out HIb2.out).1 (initR_b q HCb.out HIb2.out).2)
          have HRl : Hid ((initR c i l q).1.2.2.length ≤ n + 1) := by show _ ≤ _; have h1 := initR_l c i l q; have h2 := HLn.out; omega
          generalize initR c i l q = R at *
          clear ho1 hb1 hdy
          go_wp2_with fail
          go_roundw
          case rel => exact ⟨j - 1, R.1.1, R.1.2.1, A1, R.1.2.2.length, C1, R.1.2.2, by go_num, by have := HRl.out; omega, HG⟩
          case measure => simp [intOf]; omega

end Go.Proofs.Ytkicfiacnpifkad
