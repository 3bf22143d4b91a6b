/- A drawn record that may not be right. For codes of at most 2^40 bytes. -/
import Derived.Test.YtenkpgnkkkgdmaeDoorDrawRecA
namespace Go.Proofs.YtenkpgnkkkgdmaeDoor
open Go.RowKit
set_option linter.unusedVariables false

def oddIds : List ByteArray := [⟨#[]⟩, ⟨#[65]⟩, ⟨#[101, 105, 103, 104, 116, 108, 101, 116]⟩, ⟨#[110, 105, 110, 101, 98, 121, 116, 101, 115]⟩]
theorem oddIds_short : ∀ s ∈ oddIds, s.size ≤ 9 := by decide

theorem RV.newD {w W w3 : World} {c : Nat} (hq : BoxN W w.heap.size 43 [.int .i64 0, .int .i64 0, .int .i64 0, .string ⟨#[]⟩, .int .i64 0, .slice none 0 0]) (hg : W.grownBy w3 (some c)) (hc : c < w.heap.size) (r : R) {A : Option Addr} {C : Nat} (ho : Owns w3 W.heap.size A r.zs.length C r.zs) :
    RV w (w3.alloc (.cells #[.int .i64 r.e, .int .i64 r.q, .int .i64 r.k, .string r.id, .int .i64 r.n, .slice A r.zs.length C] 43)) w3.heap.size r.e r.q r.k r.id r.n A r.zs.length C r.zs := by
  have hlt := hq.lt
  have hs := hg.size
  exact ⟨BoxN.new _ _ _, (hq.grown hg (fun e => by injection e with e; omega)).alloc _, owns_lowV (ho.below ((Below.refl _ _).alloc (Nat.le_refl _) _)) (by omega), fun q e => by have := (ho.lt q e).2; omega, by omega⟩

set_option maxRecDepth 10000 in
set_option maxHeartbeats 3200000 in
theorem l13Any_any (B c : Nat) (a : Option Addr) (len cap : Nat) (zs : List Int) (w : World) (hcur : Cur w B c a len cap zs) (hl : len ≤ 1099511627776) :
    Calls Tryd.prog 54 #[.pointer (some ⟨c, 0, none⟩)] w fun e w' => (∃ v, e = .returned v ∧ DrawnR w.heap.size v w') ∧ Cur w' B c a len cap zs ∧ w.grownBy w' (some c) := by
  have HC : Hid (Cur w B c a len cap zs) := hcur
  clear hcur
  have hcw : c < w.heap.size := HC.out.lt
  obtain ⟨w1, hw1⟩ : ∃ w1, w.alloc (.cells #[.int .i64 0, .int .i64 0, .int .i64 0, .string ⟨#[]⟩, .int .i64 0, .slice none 0 0] 43) = w1 := ⟨_, rfl⟩
  have HE : Hid (w.alloc (.cells #[.int .i64 0, .int .i64 0, .int .i64 0, .string ⟨#[]⟩, .int .i64 0, .slice none 0 0] 43) = w1) := hw1
  have HQ1 : Hid (BoxN w1 w.heap.size 43 [.int .i64 0, .int .i64 0, .int .i64 0, .string ⟨#[]⟩, .int .i64 0, .slice none 0 0]) := by show BoxN _ _ _ _; rw [← hw1]; exact BoxN.new _ _ _
  have HC1 : Hid (Cur w1 B c a len cap zs) := by show Cur _ _ _ _ _ _ _; rw [← hw1]; exact HC.out.new _
  have HG1 : Hid (w.grownBy w1 (some c)) := by show World.grownBy _ _ _; rw [← hw1]; exact World.grownBy_alloc w _ _
  clear hw1 HC
  go_enter Tryd.func54, Tryd.ntmps54
  go_wp2_with fail
  rw [HE.out]
  clear HE
  refine (l1Below_any B c a len cap zs 4 w1 HC1.out hl (by omega) (by omega)).mono ?_
  rintro _ w2 ⟨sq, rfl, _, _, hc2, hg2⟩
  have HQ2 : Hid (BoxN w2 w.heap.size 43 [.int .i64 0, .int .i64 0, .int .i64 0, .string ⟨#[]⟩, .int .i64 0, .slice none 0 0]) := HQ1.out.grown hg2 (fun e => by injection e with e; omega)
  have HC2 : Hid (Cur w2 B c a len cap zs) := hc2
  have HG2 : Hid (w.grownBy w2 (some c)) := gtrans HG1.out hg2
  clear hc2 hg2 HQ1 HC1 HG1
  go_wp2_with fail
  refine (l13Rec_any B c a len cap zs sq w2 HC2.out hl).mono ?_
  rintro _ w3 ⟨⟨v, rfl, r, A, C, rfl, ho3, hi9, hd25⟩, hc3, hg3⟩
  have HD5 : Hid (RV w (w3.alloc (.cells #[.int .i64 r.e, .int .i64 r.q, .int .i64 r.k, .string r.id, .int .i64 r.n, .slice A r.zs.length C] 43)) w3.heap.size r.e r.q r.k r.id r.n A r.zs.length C r.zs) := RV.newD HQ2.out hg3 hcw r ho3
  have HC5 : Hid (Cur (w3.alloc (.cells #[.int .i64 r.e, .int .i64 r.q, .int .i64 r.k, .string r.id, .int .i64 r.n, .slice A r.zs.length C] 43)) B c a len cap zs) := hc3.new _
  have HG5 : Hid (w.grownBy (w3.alloc (.cells #[.int .i64 r.e, .int .i64 r.q, .int .i64 r.k, .string r.id, .int .i64 r.n, .slice A r.zs.length C] 43)) (some c)) := gnew (gtrans HG2.out hg3) _
  clear ho3 hc3 hg3 HQ2 HC2 HG2
  obtain ⟨e, q, k, id, n, ds⟩ := r
  dsimp only at *
  obtain ⟨d, hd⟩ : ∃ d, ds.length = d := ⟨_, rfl⟩
  rw [hd] at HD5 HC5 HG5 hd25 ⊢
  have HI9 : Hid (id.size ≤ 9) := hi9
  clear hd hi9
  go_wp2_with fail
  obtain ⟨w4, hw4⟩ : ∃ w4, w3.alloc (.cells #[.int .i64 e, .int .i64 q, .int .i64 k, .string id, .int .i64 n, .slice A d C] 43) = w4 := ⟨_, rfl⟩
  rw [hw4] at HD5 HC5 HG5 ⊢
  clear hw4
  generalize w3.heap.size = b at *
  refine (l1Below_any B c a len cap zs 14 w4 HC5.out hl (by omega) (by omega)).mono ?_
  rintro _ w5 ⟨m, rfl, hm0, hm1, hc5, hg5⟩
  have HD4 := HD5
  have HC4 := HC5
  have HG4 := HG5
  clear HD5 HC5 HG5
  have HD5 : Hid (RV w w5 b e q k id n A d C ds) := HD4.out.grown hg5 (fun q e => by injection e with e; omega)
  have HC5 : Hid (Cur w5 B c a len cap zs) := hc5
  have HG5 : Hid (w.grownBy w5 (some c)) := gtrans HG4.out hg5
  clear hc5 hg5 HD4 HC4 HG4
  have hbw : w.heap.size < b := HD5.out.2.2.2.2
  have hbl : b < w5.heap.size := HD5.out.1.lt
  have hc5w : c < w5.heap.size := HC5.out.lt
  by_cases h0 : m = 0
  · subst h0
    go_wp2_with fail
    refine (l1Int_any B c a len cap zs w5.heap.size 3 3 [-1, 10000, 10001] _ (HC5.out.new _) hl (heap_alloc_new w5 _) (by omega) rfl (by omega) (by omega)).mono ?_
    rintro _ w6 ⟨y, rfl, _, hc6, hg6⟩
    have hg56 : w5.grownBy w6 (some c) := gtrans (World.grownBy_alloc w5 _ _) hg6
    have hd6 := HD5.out.grown hg56 (fun q e => by injection e with e; omega)
    have HD7 : Hid (RV w (w6.setCell ⟨b, 0, none⟩ (.int .i64 y)) b y q k id n A d C ds) := hd6.setE y
    have HC7 : Hid (Cur (w6.setCell ⟨b, 0, none⟩ (.int .i64 y)) B c a len cap zs) := hc6.put (by omega) _
    have HG7 : Hid (w.grownBy (w6.setCell ⟨b, 0, none⟩ (.int .i64 y)) (some c)) := gput (gtrans HG5.out hg56) (by omega) _
    have q4 := hd6.1.cell 0 rfl
    have z4 := hd6.1.frozen 0
    clear hc6 hg6 hg56 hd6 HD5 HC5 HG5
    go_upto_region 15 with fail
    obtain ⟨w7, hw7⟩ : ∃ w7, w6.setCell ⟨b, 0, none⟩ (.int .i64 y) = w7 := ⟨_, rfl⟩
    rw [hw7] at HD7 HC7 HG7 ⊢
    clear hw7 q4 z4
    have c0 := HD7.out.1.cell 0 rfl
    have c1 := HD7.out.1.cell 1 rfl
    have c2 := HD7.out.1.cell 2 rfl
    have c3 := HD7.out.1.cell 3 rfl
    have c4 := HD7.out.1.cell 4 rfl
    have c5 := HD7.out.1.cell 5 rfl
    have r0 := HD7.out.2.1.cell 0 rfl
    have r1 := HD7.out.2.1.cell 1 rfl
    have r2 := HD7.out.2.1.cell 2 rfl
    have r3 := HD7.out.2.1.cell 3 rfl
    have r4 := HD7.out.2.1.cell 4 rfl
    have r5 := HD7.out.2.1.cell 5 rfl
    have f0 := HD7.out.2.1.frozen 0
    have f1 := HD7.out.2.1.frozen 1
    have f2 := HD7.out.2.1.frozen 2
    have f3 := HD7.out.2.1.frozen 3
    have f4 := HD7.out.2.1.frozen 4
    have f5 := HD7.out.2.1.frozen 5
    have HR := (show Hid _ from HD7.out.done HI9.out (by omega))
    have HCf := (show Hid _ from ((((((HC7.out.put (k := 0) hcw (.int .i64 y)).put (k := 1) hcw (.int .i64 q)).put (k := 2) hcw (.int .i64 k)).put (k := 3) hcw (.string id)).put (k := 4) hcw (.int .i64 n)).put (k := 5) hcw (.slice A d C)))
    have HGf := (show Hid _ from gput (k := 5) (gput (k := 4) (gput (k := 3) (gput (k := 2) (gput (k := 1) (gput (k := 0) HG7.out (Nat.le_refl _) (.int .i64 y)) (Nat.le_refl _) (.int .i64 q)) (Nat.le_refl _) (.int .i64 k)) (Nat.le_refl _) (.string id)) (Nat.le_refl _) (.int .i64 n)) (Nat.le_refl _) (.slice A d C))
    clear HD7 HC7 HG7
    go_wp2_with fail
    refine bodyPost_ret (v := .agg #[.int .i64 y, .int .i64 q, .int .i64 k, .string id, .int .i64 n, .slice A d C]) (by simp [results, Tryd.f54, go_sem, r0, r1, r2, r3, r4, r5]) rfl ?_
    exact ⟨⟨_, rfl, HR.out⟩, HCf.out, HGf.out⟩
  have h0b : (m == 0) = false := by simpa using h0
  by_cases h1 : m = 1
  · subst h1
    go_wp2_with fail
    refine (l1Int_any B c a len cap zs w5.heap.size 3 3 [-1, 199, 200] _ (HC5.out.new _) hl (heap_alloc_new w5 _) (by omega) rfl (by omega) (by omega)).mono ?_
    rintro _ w6 ⟨y, rfl, _, hc6, hg6⟩
    have hg56 : w5.grownBy w6 (some c) := gtrans (World.grownBy_alloc w5 _ _) hg6
    have hd6 := HD5.out.grown hg56 (fun q e => by injection e with e; omega)
    have HD7 : Hid (RV w (w6.setCell ⟨b, 1, none⟩ (.int .i64 y)) b e y k id n A d C ds) := hd6.setQ y
    have HC7 : Hid (Cur (w6.setCell ⟨b, 1, none⟩ (.int .i64 y)) B c a len cap zs) := hc6.put (by omega) _
    have HG7 : Hid (w.grownBy (w6.setCell ⟨b, 1, none⟩ (.int .i64 y)) (some c)) := gput (gtrans HG5.out hg56) (by omega) _
    have q4 := hd6.1.cell 1 rfl
    have z4 := hd6.1.frozen 1
    clear hc6 hg6 hg56 hd6 HD5 HC5 HG5
    go_upto_region 15 with fail
    obtain ⟨w7, hw7⟩ : ∃ w7, w6.setCell ⟨b, 1, none⟩ (.int .i64 y) = w7 := ⟨_, rfl⟩
    rw [hw7] at HD7 HC7 HG7 ⊢
    clear hw7 q4 z4
    have c0 := HD7.out.1.cell 0 rfl
    have c1 := HD7.out.1.cell 1 rfl
    have c2 := HD7.out.1.cell 2 rfl
    have c3 := HD7.out.1.cell 3 rfl
    have c4 := HD7.out.1.cell 4 rfl
    have c5 := HD7.out.1.cell 5 rfl
    have r0 := HD7.out.2.1.cell 0 rfl
    have r1 := HD7.out.2.1.cell 1 rfl
    have r2 := HD7.out.2.1.cell 2 rfl
    have r3 := HD7.out.2.1.cell 3 rfl
    have r4 := HD7.out.2.1.cell 4 rfl
    have r5 := HD7.out.2.1.cell 5 rfl
    have f0 := HD7.out.2.1.frozen 0
    have f1 := HD7.out.2.1.frozen 1
    have f2 := HD7.out.2.1.frozen 2
    have f3 := HD7.out.2.1.frozen 3
    have f4 := HD7.out.2.1.frozen 4
    have f5 := HD7.out.2.1.frozen 5
    have HR := (show Hid _ from HD7.out.done HI9.out (by omega))
    have HCf := (show Hid _ from ((((((HC7.out.put (k := 0) hcw (.int .i64 e)).put (k := 1) hcw (.int .i64 y)).put (k := 2) hcw (.int .i64 k)).put (k := 3) hcw (.string id)).put (k := 4) hcw (.int .i64 n)).put (k := 5) hcw (.slice A d C)))
    have HGf := (show Hid _ from gput (k := 5) (gput (k := 4) (gput (k := 3) (gput (k := 2) (gput (k := 1) (gput (k := 0) HG7.out (Nat.le_refl _) (.int .i64 e)) (Nat.le_refl _) (.int .i64 y)) (Nat.le_refl _) (.int .i64 k)) (Nat.le_refl _) (.string id)) (Nat.le_refl _) (.int .i64 n)) (Nat.le_refl _) (.slice A d C))
    clear HD7 HC7 HG7
    go_wp2_with fail
    refine bodyPost_ret (v := .agg #[.int .i64 e, .int .i64 y, .int .i64 k, .string id, .int .i64 n, .slice A d C]) (by simp [results, Tryd.f54, go_sem, r0, r1, r2, r3, r4, r5]) rfl ?_
    exact ⟨⟨_, rfl, HR.out⟩, HCf.out, HGf.out⟩
  have h1b : (m == 1) = false := by simpa using h1
  by_cases h2 : m = 2
  · subst h2
    go_wp2_with fail
    refine (l1Str_any B c a len cap zs w5.heap.size 4 4 oddIds _ (HC5.out.new _) hl (heap_alloc_new w5 _) (by omega) rfl (by omega) (by omega)).mono ?_
    rintro _ w6 ⟨y, rfl, hy, hc6, hg6⟩
    have HY9 : Hid (y.size ≤ 9) := oddIds_short y hy
    clear hy
    have hg56 : w5.grownBy w6 (some c) := gtrans (World.grownBy_alloc w5 _ _) hg6
    have hd6 := HD5.out.grown hg56 (fun q e => by injection e with e; omega)
    have HD7 : Hid (RV w (w6.setCell ⟨b, 3, none⟩ (.string y)) b e q k y n A d C ds) := hd6.setI y
    have HC7 : Hid (Cur (w6.setCell ⟨b, 3, none⟩ (.string y)) B c a len cap zs) := hc6.put (by omega) _
    have HG7 : Hid (w.grownBy (w6.setCell ⟨b, 3, none⟩ (.string y)) (some c)) := gput (gtrans HG5.out hg56) (by omega) _
    have q4 := hd6.1.cell 3 rfl
    have z4 := hd6.1.frozen 3
    clear hc6 hg6 hg56 hd6 HD5 HC5 HG5
    go_upto_region 15 with fail
    obtain ⟨w7, hw7⟩ : ∃ w7, w6.setCell ⟨b, 3, none⟩ (.string y) = w7 := ⟨_, rfl⟩
    rw [hw7] at HD7 HC7 HG7 ⊢
    clear hw7 q4 z4
    have c0 := HD7.out.1.cell 0 rfl
    have c1 := HD7.out.1.cell 1 rfl
    have c2 := HD7.out.1.cell 2 rfl
    have c3 := HD7.out.1.cell 3 rfl
    have c4 := HD7.out.1.cell 4 rfl
    have c5 := HD7.out.1.cell 5 rfl
    have r0 := HD7.out.2.1.cell 0 rfl
    have r1 := HD7.out.2.1.cell 1 rfl
    have r2 := HD7.out.2.1.cell 2 rfl
    have r3 := HD7.out.2.1.cell 3 rfl
    have r4 := HD7.out.2.1.cell 4 rfl
    have r5 := HD7.out.2.1.cell 5 rfl
    have f0 := HD7.out.2.1.frozen 0
    have f1 := HD7.out.2.1.frozen 1
    have f2 := HD7.out.2.1.frozen 2
    have f3 := HD7.out.2.1.frozen 3
    have f4 := HD7.out.2.1.frozen 4
    have f5 := HD7.out.2.1.frozen 5
    have HR := (show Hid _ from HD7.out.done HY9.out (by omega))
    have HCf := (show Hid _ from ((((((HC7.out.put (k := 0) hcw (.int .i64 e)).put (k := 1) hcw (.int .i64 q)).put (k := 2) hcw (.int .i64 k)).put (k := 3) hcw (.string y)).put (k := 4) hcw (.int .i64 n)).put (k := 5) hcw (.slice A d C)))
    have HGf := (show Hid _ from gput (k := 5) (gput (k := 4) (gput (k := 3) (gput (k := 2) (gput (k := 1) (gput (k := 0) HG7.out (Nat.le_refl _) (.int .i64 e)) (Nat.le_refl _) (.int .i64 q)) (Nat.le_refl _) (.int .i64 k)) (Nat.le_refl _) (.string y)) (Nat.le_refl _) (.int .i64 n)) (Nat.le_refl _) (.slice A d C))
    clear HD7 HC7 HG7
    go_wp2_with fail
    refine bodyPost_ret (v := .agg #[.int .i64 e, .int .i64 q, .int .i64 k, .string y, .int .i64 n, .slice A d C]) (by simp [results, Tryd.f54, go_sem, r0, r1, r2, r3, r4, r5]) rfl ?_
    exact ⟨⟨_, rfl, HR.out⟩, HCf.out, HGf.out⟩
  have h2b : (m == 2) = false := by simpa using h2
  by_cases h3 : m = 3
  · subst h3
    go_wp2_with fail
    refine (l1Int_any B c a len cap zs w5.heap.size 3 3 [-1, 1000000000, 1000000001] _ (HC5.out.new _) hl (heap_alloc_new w5 _) (by omega) rfl (by omega) (by omega)).mono ?_
    rintro _ w6 ⟨y, rfl, _, hc6, hg6⟩
    have hg56 : w5.grownBy w6 (some c) := gtrans (World.grownBy_alloc w5 _ _) hg6
    have hd6 := HD5.out.grown hg56 (fun q e => by injection e with e; omega)
    have HD7 : Hid (RV w (w6.setCell ⟨b, 4, none⟩ (.int .i64 y)) b e q k id y A d C ds) := hd6.setN y
    have HC7 : Hid (Cur (w6.setCell ⟨b, 4, none⟩ (.int .i64 y)) B c a len cap zs) := hc6.put (by omega) _
    have HG7 : Hid (w.grownBy (w6.setCell ⟨b, 4, none⟩ (.int .i64 y)) (some c)) := gput (gtrans HG5.out hg56) (by omega) _
    have q4 := hd6.1.cell 4 rfl
    have z4 := hd6.1.frozen 4
    clear hc6 hg6 hg56 hd6 HD5 HC5 HG5
    go_upto_region 15 with fail
    obtain ⟨w7, hw7⟩ : ∃ w7, w6.setCell ⟨b, 4, none⟩ (.int .i64 y) = w7 := ⟨_, rfl⟩
    rw [hw7] at HD7 HC7 HG7 ⊢
    clear hw7 q4 z4
    have c0 := HD7.out.1.cell 0 rfl
    have c1 := HD7.out.1.cell 1 rfl
    have c2 := HD7.out.1.cell 2 rfl
    have c3 := HD7.out.1.cell 3 rfl
    have c4 := HD7.out.1.cell 4 rfl
    have c5 := HD7.out.1.cell 5 rfl
    have r0 := HD7.out.2.1.cell 0 rfl
    have r1 := HD7.out.2.1.cell 1 rfl
    have r2 := HD7.out.2.1.cell 2 rfl
    have r3 := HD7.out.2.1.cell 3 rfl
    have r4 := HD7.out.2.1.cell 4 rfl
    have r5 := HD7.out.2.1.cell 5 rfl
    have f0 := HD7.out.2.1.frozen 0
    have f1 := HD7.out.2.1.frozen 1
    have f2 := HD7.out.2.1.frozen 2
    have f3 := HD7.out.2.1.frozen 3
    have f4 := HD7.out.2.1.frozen 4
    have f5 := HD7.out.2.1.frozen 5
    have HR := (show Hid _ from HD7.out.done HI9.out (by omega))
    have HCf := (show Hid _ from ((((((HC7.out.put (k := 0) hcw (.int .i64 e)).put (k := 1) hcw (.int .i64 q)).put (k := 2) hcw (.int .i64 k)).put (k := 3) hcw (.string id)).put (k := 4) hcw (.int .i64 y)).put (k := 5) hcw (.slice A d C)))
    have HGf := (show Hid _ from gput (k := 5) (gput (k := 4) (gput (k := 3) (gput (k := 2) (gput (k := 1) (gput (k := 0) HG7.out (Nat.le_refl _) (.int .i64 e)) (Nat.le_refl _) (.int .i64 q)) (Nat.le_refl _) (.int .i64 k)) (Nat.le_refl _) (.string id)) (Nat.le_refl _) (.int .i64 y)) (Nat.le_refl _) (.slice A d C))
    clear HD7 HC7 HG7
    go_wp2_with fail
    refine bodyPost_ret (v := .agg #[.int .i64 e, .int .i64 q, .int .i64 k, .string id, .int .i64 y, .slice A d C]) (by simp [results, Tryd.f54, go_sem, r0, r1, r2, r3, r4, r5]) rfl ?_
    exact ⟨⟨_, rfl, HR.out⟩, HCf.out, HGf.out⟩
  have h3b : (m == 3) = false := by simpa using h3
  by_cases h5 : m = 5
  · subst h5
    go_wp2_with fail
    refine (l1Below_any B c a len cap zs 6 w5 HC5.out hl (by omega) (by omega)).mono ?_
    rintro _ w6 ⟨y, rfl, _, _, hc6, hg6⟩
    have hg56 : w5.grownBy w6 (some c) := hg6
    have hd6 := HD5.out.grown hg56 (fun q e => by injection e with e; omega)
    have HD7 : Hid (RV w (w6.setCell ⟨b, 2, none⟩ (.int .i64 y)) b e q y id n A d C ds) := hd6.setK y
    have HC7 : Hid (Cur (w6.setCell ⟨b, 2, none⟩ (.int .i64 y)) B c a len cap zs) := hc6.put (by omega) _
    have HG7 : Hid (w.grownBy (w6.setCell ⟨b, 2, none⟩ (.int .i64 y)) (some c)) := gput (gtrans HG5.out hg56) (by omega) _
    have q4 := hd6.1.cell 2 rfl
    have z4 := hd6.1.frozen 2
    clear hc6 hg6 hg56 hd6 HD5 HC5 HG5
    go_upto_region 15 with fail
    obtain ⟨w7, hw7⟩ : ∃ w7, w6.setCell ⟨b, 2, none⟩ (.int .i64 y) = w7 := ⟨_, rfl⟩
    rw [hw7] at HD7 HC7 HG7 ⊢
    clear hw7 q4 z4
    have c0 := HD7.out.1.cell 0 rfl
    have c1 := HD7.out.1.cell 1 rfl
    have c2 := HD7.out.1.cell 2 rfl
    have c3 := HD7.out.1.cell 3 rfl
    have c4 := HD7.out.1.cell 4 rfl
    have c5 := HD7.out.1.cell 5 rfl
    have r0 := HD7.out.2.1.cell 0 rfl
    have r1 := HD7.out.2.1.cell 1 rfl
    have r2 := HD7.out.2.1.cell 2 rfl
    have r3 := HD7.out.2.1.cell 3 rfl
    have r4 := HD7.out.2.1.cell 4 rfl
    have r5 := HD7.out.2.1.cell 5 rfl
    have f0 := HD7.out.2.1.frozen 0
    have f1 := HD7.out.2.1.frozen 1
    have f2 := HD7.out.2.1.frozen 2
    have f3 := HD7.out.2.1.frozen 3
    have f4 := HD7.out.2.1.frozen 4
    have f5 := HD7.out.2.1.frozen 5
    have HR := (show Hid _ from HD7.out.done HI9.out (by omega))
    have HCf := (show Hid _ from ((((((HC7.out.put (k := 0) hcw (.int .i64 e)).put (k := 1) hcw (.int .i64 q)).put (k := 2) hcw (.int .i64 y)).put (k := 3) hcw (.string id)).put (k := 4) hcw (.int .i64 n)).put (k := 5) hcw (.slice A d C)))
    have HGf := (show Hid _ from gput (k := 5) (gput (k := 4) (gput (k := 3) (gput (k := 2) (gput (k := 1) (gput (k := 0) HG7.out (Nat.le_refl _) (.int .i64 e)) (Nat.le_refl _) (.int .i64 q)) (Nat.le_refl _) (.int .i64 y)) (Nat.le_refl _) (.string id)) (Nat.le_refl _) (.int .i64 n)) (Nat.le_refl _) (.slice A d C))
    clear HD7 HC7 HG7
    go_wp2_with fail
    refine bodyPost_ret (v := .agg #[.int .i64 e, .int .i64 q, .int .i64 y, .string id, .int .i64 n, .slice A d C]) (by simp [results, Tryd.f54, go_sem, r0, r1, r2, r3, r4, r5]) rfl ?_
    exact ⟨⟨_, rfl, HR.out⟩, HCf.out, HGf.out⟩
  have h5b : (m == 5) = false := by simpa using h5
  by_cases h4 : m = 4
  case neg =>
    have h4b : (m == 4) = false := by simpa using h4
    have c0 := HD5.out.1.cell 0 rfl
    have c1 := HD5.out.1.cell 1 rfl
    have c2 := HD5.out.1.cell 2 rfl
    have c3 := HD5.out.1.cell 3 rfl
    have c4 := HD5.out.1.cell 4 rfl
    have c5 := HD5.out.1.cell 5 rfl
    have r0 := HD5.out.2.1.cell 0 rfl
    have r1 := HD5.out.2.1.cell 1 rfl
    have r2 := HD5.out.2.1.cell 2 rfl
    have r3 := HD5.out.2.1.cell 3 rfl
    have r4 := HD5.out.2.1.cell 4 rfl
    have r5 := HD5.out.2.1.cell 5 rfl
    have f0 := HD5.out.2.1.frozen 0
    have f1 := HD5.out.2.1.frozen 1
    have f2 := HD5.out.2.1.frozen 2
    have f3 := HD5.out.2.1.frozen 3
    have f4 := HD5.out.2.1.frozen 4
    have f5 := HD5.out.2.1.frozen 5
    have HR := (show Hid _ from HD5.out.done HI9.out (by omega))
    have HCf := (show Hid _ from ((((((HC5.out.put (k := 0) hcw (.int .i64 e)).put (k := 1) hcw (.int .i64 q)).put (k := 2) hcw (.int .i64 k)).put (k := 3) hcw (.string id)).put (k := 4) hcw (.int .i64 n)).put (k := 5) hcw (.slice A d C)))
    have HGf := (show Hid _ from gput (k := 5) (gput (k := 4) (gput (k := 3) (gput (k := 2) (gput (k := 1) (gput (k := 0) HG5.out (Nat.le_refl _) (.int .i64 e)) (Nat.le_refl _) (.int .i64 q)) (Nat.le_refl _) (.int .i64 k)) (Nat.le_refl _) (.string id)) (Nat.le_refl _) (.int .i64 n)) (Nat.le_refl _) (.slice A d C))
    clear HD5 HC5 HG5
    go_wp2_with fail
    refine bodyPost_ret (v := .agg #[.int .i64 e, .int .i64 q, .int .i64 k, .string id, .int .i64 n, .slice A d C]) (by simp [results, Tryd.f54, go_sem, r0, r1, r2, r3, r4, r5]) rfl ?_
    exact ⟨⟨_, rfl, HR.out⟩, HCf.out, HGf.out⟩
  subst h4
  go_wp2_with fail
  refine (l1Int_any B c a len cap zs w5.heap.size 3 3 [0, 24, 25] _ (HC5.out.new _) hl (heap_alloc_new w5 _) (by omega) rfl (by omega) (by omega)).mono ?_
  rintro _ w8 ⟨y, rfl, hy, hc8, hg8⟩
  obtain ⟨mm, rfl⟩ : ∃ mm : Nat, y = (mm : Int) := by
    simp only [List.mem_cons, List.not_mem_nil, or_false] at hy
    exact ⟨y.toNat, by omega⟩
  have hm25 : mm ≤ 25 := by
    simp only [List.mem_cons, List.not_mem_nil, or_false] at hy
    omega
  have hg78 : w5.grownBy w8 (some c) := gtrans (World.grownBy_alloc w5 _ _) hg8
  have HD8 : Hid (RV w w8 b e q k id n A d C ds) := HD5.out.grown hg78 (fun q e => by injection e with e; omega)
  have HC8 : Hid (Cur w8 B c a len cap zs) := hc8
  have HG8 : Hid (w.grownBy w8 (some c)) := gtrans HG5.out hg78
  clear hy hc8 hg8 hg78 HD5 HC5 HG5
  have hb8 : b < w8.heap.size := HD8.out.1.lt
  go_wp2_with fail
  refine (l1Bytes_any B c a len cap zs mm w8 HC8.out hl (by omega)).mono ?_
  rintro _ w9 ⟨g, cp, es, rfl, _, ho9, hc9, hg9⟩
  have hd9 := HD8.out.grown hg9 (fun q e => by injection e with e; omega)
  have HD7 : Hid (RV w (w9.setCell ⟨b, 5, none⟩ (.slice (some ⟨g, 0, none⟩) mm cp)) b e q k id n (some ⟨g, 0, none⟩) mm cp es) := hd9.setD ho9 hb8
  have HC7 : Hid (Cur (w9.setCell ⟨b, 5, none⟩ (.slice (some ⟨g, 0, none⟩) mm cp)) B c a len cap zs) := hc9.put (by omega) _
  have HG7 : Hid (w.grownBy (w9.setCell ⟨b, 5, none⟩ (.slice (some ⟨g, 0, none⟩) mm cp)) (some c)) := gput (gtrans HG8.out hg9) (by omega) _
  have q5 := hd9.1.cell 5 rfl
  have z5 := hd9.1.frozen 5
  clear ho9 hc9 hg9 hd9 HD8 HC8 HG8
  go_upto_region 15 with fail
  obtain ⟨w10, hw10⟩ : ∃ w10, w9.setCell ⟨b, 5, none⟩ (.slice (some ⟨g, 0, none⟩) mm cp) = w10 := ⟨_, rfl⟩
  rw [hw10] at HD7 HC7 HG7 ⊢
  clear hw10 q5 z5
  have c0 := HD7.out.1.cell 0 rfl
  have c1 := HD7.out.1.cell 1 rfl
  have c2 := HD7.out.1.cell 2 rfl
  have c3 := HD7.out.1.cell 3 rfl
  have c4 := HD7.out.1.cell 4 rfl
  have c5 := HD7.out.1.cell 5 rfl
  have r0 := HD7.out.2.1.cell 0 rfl
  have r1 := HD7.out.2.1.cell 1 rfl
  have r2 := HD7.out.2.1.cell 2 rfl
  have r3 := HD7.out.2.1.cell 3 rfl
  have r4 := HD7.out.2.1.cell 4 rfl
  have r5 := HD7.out.2.1.cell 5 rfl
  have f0 := HD7.out.2.1.frozen 0
  have f1 := HD7.out.2.1.frozen 1
  have f2 := HD7.out.2.1.frozen 2
  have f3 := HD7.out.2.1.frozen 3
  have f4 := HD7.out.2.1.frozen 4
  have f5 := HD7.out.2.1.frozen 5
  have HR := (show Hid _ from HD7.out.done HI9.out (by omega))
  have HCf := (show Hid _ from ((((((HC7.out.put (k := 0) hcw (.int .i64 e)).put (k := 1) hcw (.int .i64 q)).put (k := 2) hcw (.int .i64 k)).put (k := 3) hcw (.string id)).put (k := 4) hcw (.int .i64 n)).put (k := 5) hcw (.slice (some ⟨g, 0, none⟩) mm cp)))
  have HGf := (show Hid _ from gput (k := 5) (gput (k := 4) (gput (k := 3) (gput (k := 2) (gput (k := 1) (gput (k := 0) HG7.out (Nat.le_refl _) (.int .i64 e)) (Nat.le_refl _) (.int .i64 q)) (Nat.le_refl _) (.int .i64 k)) (Nat.le_refl _) (.string id)) (Nat.le_refl _) (.int .i64 n)) (Nat.le_refl _) (.slice (some ⟨g, 0, none⟩) mm cp))
  clear HD7 HC7 HG7
  go_wp2_with fail
  refine bodyPost_ret (v := .agg #[.int .i64 e, .int .i64 q, .int .i64 k, .string id, .int .i64 n, .slice (some ⟨g, 0, none⟩) mm cp]) (by simp [results, Tryd.f54, go_sem, r0, r1, r2, r3, r4, r5]) rfl ?_
  exact ⟨⟨_, rfl, HR.out⟩, HCf.out, HGf.out⟩

end Go.Proofs.YtenkpgnkkkgdmaeDoor
