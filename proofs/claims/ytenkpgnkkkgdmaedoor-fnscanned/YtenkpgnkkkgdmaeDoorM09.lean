/- A drawn record. For codes of at most 2^40 bytes. -/
import Derived.Test.YtenkpgnkkkgdmaeDoorM07
import Derived.Test.YtenkpgnkkkgdmaeDoorM08
import Derived.Test.YtenkpgnkkkgdmaeDoorM08
import Derived.Deep.CutBlock
import Derived.Deep.RegionHeld3
namespace Go.Proofs.YtenkpgnkkkgdmaeDoor
open Go.RowKit
set_option linter.unusedVariables false

def rids : List ByteArray := [⟨#[97]⟩, ⟨#[98]⟩, ⟨#[117, 112, 49]⟩]
theorem rids_short : ∀ s ∈ rids, s.size ≤ 9 := by decide

set_option maxRecDepth 10000 in
set_option maxHeartbeats 3200000 in
theorem l13Rec_any (B c : Nat) (a : Option Addr) (len cap : Nat) (zs : List Int) (seq : Int) (w : World) (hcur : Cur w B c a len cap zs) (hl : len ≤ 1099511627776) :
    Calls Tryd.prog 76 #[.pointer (some ⟨c, 0, none⟩), .int .i64 seq] w fun e w' => (∃ v, e = .returned v ∧ DrawnR w.heap.size v w') ∧ Cur w' B c a len cap zs ∧ w.grownBy w' (some c) := by
  have HC : Hid (Cur w B c a len cap zs) := hcur
  clear hcur
  have hcw : c < w.heap.size := HC.out.lt
  obtain ⟨w1, hw1⟩ : ∃ w1, w.alloc (.cells #[.int .i64 0, .int .i64 0, .int .i64 0, .string ⟨#[]⟩, .int .i64 0, .slice none 0 0] 43) = w1 := ⟨_, rfl⟩
  have HE : Hid (w.alloc (.cells #[.int .i64 0, .int .i64 0, .int .i64 0, .string ⟨#[]⟩, .int .i64 0, .slice none 0 0] 43) = w1) := hw1
  have HQ1 : Hid (BoxN w1 w.heap.size 43 [.int .i64 0, .int .i64 0, .int .i64 0, .string ⟨#[]⟩, .int .i64 0, .slice none 0 0]) := by show BoxN _ _ _ _; rw [← hw1]; exact BoxN.new _ _ _
  have HC1 : Hid (Cur w1 B c a len cap zs) := by show Cur _ _ _ _ _ _ _; rw [← hw1]; exact HC.out.new _
  have HG1 : Hid (w.grownBy w1 (some c)) := by show World.grownBy _ _ _; rw [← hw1]; exact World.grownBy_alloc w _ _
  clear hw1 HC
  go_enter Tryd.func76, Tryd.ntmps76
  go_wp2_with fail
  rw [HE.out]
  clear HE
  refine (l1Below_any B c a len cap zs 3 w1 HC1.out hl (by omega) (by omega)).mono ?_
  rintro _ w2 ⟨e, rfl, he0, he1, hc2, hg2⟩
  have HQ2 : Hid (BoxN w2 w.heap.size 43 [.int .i64 0, .int .i64 0, .int .i64 0, .string ⟨#[]⟩, .int .i64 0, .slice none 0 0]) := HQ1.out.grown hg2 (fun e => by injection e with e; omega)
  have HC2 : Hid (Cur w2 B c a len cap zs) := hc2
  have HG2 : Hid (w.grownBy w2 (some c)) := gtrans HG1.out hg2
  clear hc2 hg2 HQ1 HC1 HG1
  have hc2w : c < w2.heap.size := HC2.out.lt
  go_wp2_with fail
  refine (l1Int_any B c a len cap zs w2.heap.size 5 5 [1, 2, 2, 3, 4] _ (HC2.out.new _) hl (heap_alloc_new w2 _) (by omega) rfl (by omega) (by omega)).mono ?_
  rintro _ w3 ⟨k, rfl, hk, hc3, hg3⟩
  have hg23 : w2.grownBy w3 (some c) := gtrans (World.grownBy_alloc w2 _ _) hg3
  have HQ3 : Hid (BoxN w3 w.heap.size 43 [.int .i64 0, .int .i64 0, .int .i64 0, .string ⟨#[]⟩, .int .i64 0, .slice none 0 0]) := HQ2.out.grown hg23 (fun e => by injection e with e; omega)
  have HC3 : Hid (Cur w3 B c a len cap zs) := hc3
  have HG3 : Hid (w.grownBy w3 (some c)) := gtrans HG2.out hg23
  clear hk hc3 hg3 hg23 HQ2 HC2 HG2 hc2w
  have hc3w : c < w3.heap.size := HC3.out.lt
  go_wp2_with fail
  refine (l1Str_any B c a len cap zs w3.heap.size 3 3 rids _ (HC3.out.new _) hl (heap_alloc_new w3 _) (by omega) rfl (by omega) (by omega)).mono ?_
  rintro _ w4 ⟨id, rfl, hid, hc4, hg4⟩
  have HI9 : Hid (id.size ≤ 9) := rids_short id hid
  have hg34 : w3.grownBy w4 (some c) := gtrans (World.grownBy_alloc w3 _ _) hg4
  have HQ4 : Hid (BoxN w4 w.heap.size 43 [.int .i64 0, .int .i64 0, .int .i64 0, .string ⟨#[]⟩, .int .i64 0, .slice none 0 0]) := HQ3.out.grown hg34 (fun e => by injection e with e; omega)
  have HD5 : Hid (RV w (w4.alloc (.cells #[.int .i64 e, .int .i64 seq, .int .i64 k, .string id, .int .i64 0, .slice none 0 0] 43)) w4.heap.size e seq k id 0 none 0 0 []) := RV.new HQ4.out e seq k id 0
  have HC5 : Hid (Cur (w4.alloc (.cells #[.int .i64 e, .int .i64 seq, .int .i64 k, .string id, .int .i64 0, .slice none 0 0] 43)) B c a len cap zs) := hc4.new _
  have HG5 : Hid (w.grownBy (w4.alloc (.cells #[.int .i64 e, .int .i64 seq, .int .i64 k, .string id, .int .i64 0, .slice none 0 0] 43)) (some c)) := gnew (gtrans HG3.out hg34) _
  clear hid hc4 hg4 hg34 HQ3 HC3 HG3 hc3w HQ4
  go_upto_region 2 with fail
  obtain ⟨w5, hw5⟩ : ∃ w5, w4.alloc (.cells #[.int .i64 e, .int .i64 seq, .int .i64 k, .string id, .int .i64 0, .slice none 0 0] 43) = w5 := ⟨_, rfl⟩
  rw [hw5] at HD5 HC5 HG5 ⊢
  clear hw5
  generalize w4.heap.size = b at *
  have hbw : w.heap.size < b := HD5.out.2.2.2.2
  have hbl : b < w5.heap.size := HD5.out.1.lt
  have hc5w : c < w5.heap.size := HC5.out.lt
  have s2 := HD5.out.1.cell 2 rfl
  by_cases hk1 : k = 1
  · subst hk1
    go_wp2_with fail
    refine (l1Int_any B c a len cap zs w5.heap.size 3 3 [0, 5, 30] _ (HC5.out.new _) hl (heap_alloc_new w5 _) (by omega) rfl (by omega) (by omega)).mono ?_
    rintro _ w6 ⟨n, rfl, hn, hc6, hg6⟩
    have hg56 : w5.grownBy w6 (some c) := gtrans (World.grownBy_alloc w5 _ _) hg6
    have hd6 := HD5.out.grown hg56 (fun q e => by injection e with e; omega)
    have HD7 : Hid (RV w (w6.setCell ⟨b, 4, none⟩ (.int .i64 n)) b e seq 1 id n none 0 0 []) := hd6.setN n
    have HC7 : Hid (Cur (w6.setCell ⟨b, 4, none⟩ (.int .i64 n)) B c a len cap zs) := hc6.put (by omega) _
    have HG7 : Hid (w.grownBy (w6.setCell ⟨b, 4, none⟩ (.int .i64 n)) (some c)) := gput (gtrans HG5.out hg56) (by omega) _
    have q4 := hd6.1.cell 4 rfl
    have z4 := hd6.1.frozen 4
    clear hn hc6 hg6 hg56 hd6 HD5 HC5 HG5 s2
    go_upto_region 8 with fail
    obtain ⟨w7, hw7⟩ : ∃ w7, w6.setCell ⟨b, 4, none⟩ (.int .i64 n) = w7 := ⟨_, rfl⟩
    rw [hw7] at HD7 HC7 HG7 ⊢
    clear hw7 q4 z4
    have c0 := HD7.out.1.cell 0 rfl
    have c1 := HD7.out.1.cell 1 rfl
    have c2 := HD7.out.1.cell 2 rfl
    have c3 := HD7.out.1.cell 3 rfl
    have c4 := HD7.out.1.cell 4 rfl
    have c5 := HD7.out.1.cell 5 rfl
    have r0 := HD7.out.2.1.cell 0 rfl
    have r1 := HD7.out.2.1.cell 1 rfl
    have r2 := HD7.out.2.1.cell 2 rfl
    have r3 := HD7.out.2.1.cell 3 rfl
    have r4 := HD7.out.2.1.cell 4 rfl
    have r5 := HD7.out.2.1.cell 5 rfl
    have f0 := HD7.out.2.1.frozen 0
    have f1 := HD7.out.2.1.frozen 1
    have f2 := HD7.out.2.1.frozen 2
    have f3 := HD7.out.2.1.frozen 3
    have f4 := HD7.out.2.1.frozen 4
    have f5 := HD7.out.2.1.frozen 5
    have HR := (show Hid _ from HD7.out.done HI9.out (by omega))
    have HCf := (show Hid _ from ((((((HC7.out.put (k := 0) hcw (.int .i64 e)).put (k := 1) hcw (.int .i64 seq)).put (k := 2) hcw (.int .i64 1)).put (k := 3) hcw (.string id)).put (k := 4) hcw (.int .i64 n)).put (k := 5) hcw (.slice none 0 0)))
    have HGf := (show Hid _ from gput (k := 5) (gput (k := 4) (gput (k := 3) (gput (k := 2) (gput (k := 1) (gput (k := 0) HG7.out (Nat.le_refl _) (.int .i64 e)) (Nat.le_refl _) (.int .i64 seq)) (Nat.le_refl _) (.int .i64 1)) (Nat.le_refl _) (.string id)) (Nat.le_refl _) (.int .i64 n)) (Nat.le_refl _) (.slice none 0 0))
    clear HD7 HC7 HG7
    go_wp2_with fail
    refine bodyPost_ret (v := .agg #[.int .i64 e, .int .i64 seq, .int .i64 1, .string id, .int .i64 n, .slice none 0 0]) (by simp [results, Tryd.f76, go_sem, r0, r1, r2, r3, r4, r5]) rfl ?_
    exact ⟨⟨_, rfl, HR.out⟩, HCf.out, HGf.out⟩
  have hk1b : (k == 1) = false := by simpa using hk1
  by_cases hk2 : k = 2
  case neg =>
    have hk2b : (k == 2) = false := by simpa using hk2
    have c0 := HD5.out.1.cell 0 rfl
    have c1 := HD5.out.1.cell 1 rfl
    have c2 := HD5.out.1.cell 2 rfl
    have c3 := HD5.out.1.cell 3 rfl
    have c4 := HD5.out.1.cell 4 rfl
    have c5 := HD5.out.1.cell 5 rfl
    have r0 := HD5.out.2.1.cell 0 rfl
    have r1 := HD5.out.2.1.cell 1 rfl
    have r2 := HD5.out.2.1.cell 2 rfl
    have r3 := HD5.out.2.1.cell 3 rfl
    have r4 := HD5.out.2.1.cell 4 rfl
    have r5 := HD5.out.2.1.cell 5 rfl
    have f0 := HD5.out.2.1.frozen 0
    have f1 := HD5.out.2.1.frozen 1
    have f2 := HD5.out.2.1.frozen 2
    have f3 := HD5.out.2.1.frozen 3
    have f4 := HD5.out.2.1.frozen 4
    have f5 := HD5.out.2.1.frozen 5
    have HR := (show Hid _ from HD5.out.done HI9.out (by omega))
    have HCf := (show Hid _ from ((((((HC5.out.put (k := 0) hcw (.int .i64 e)).put (k := 1) hcw (.int .i64 seq)).put (k := 2) hcw (.int .i64 k)).put (k := 3) hcw (.string id)).put (k := 4) hcw (.int .i64 0)).put (k := 5) hcw (.slice none 0 0)))
    have HGf := (show Hid _ from gput (k := 5) (gput (k := 4) (gput (k := 3) (gput (k := 2) (gput (k := 1) (gput (k := 0) HG5.out (Nat.le_refl _) (.int .i64 e)) (Nat.le_refl _) (.int .i64 seq)) (Nat.le_refl _) (.int .i64 k)) (Nat.le_refl _) (.string id)) (Nat.le_refl _) (.int .i64 0)) (Nat.le_refl _) (.slice none 0 0))
    clear HD5 HC5 HG5
    go_wp2_with fail
    refine bodyPost_ret (v := .agg #[.int .i64 e, .int .i64 seq, .int .i64 k, .string id, .int .i64 0, .slice none 0 0]) (by simp [results, Tryd.f76, go_sem, r0, r1, r2, r3, r4, r5]) rfl ?_
    exact ⟨⟨_, rfl, HR.out⟩, HCf.out, HGf.out⟩
  subst hk2
  go_wp2_with fail
  refine (l1Int_any B c a len cap zs w5.heap.size 3 3 [0, 3, 24] _ (HC5.out.new _) hl (heap_alloc_new w5 _) (by omega) rfl (by omega) (by omega)).mono ?_
  rintro _ w6 ⟨n, rfl, hn, hc6, hg6⟩
  have hg56 : w5.grownBy w6 (some c) := gtrans (World.grownBy_alloc w5 _ _) hg6
  have hd6 := HD5.out.grown hg56 (fun q e => by injection e with e; omega)
  have HD7 : Hid (RV w (w6.setCell ⟨b, 4, none⟩ (.int .i64 n)) b e seq 2 id n none 0 0 []) := hd6.setN n
  have HC7 : Hid (Cur (w6.setCell ⟨b, 4, none⟩ (.int .i64 n)) B c a len cap zs) := hc6.put (by omega) _
  have HG7 : Hid (w.grownBy (w6.setCell ⟨b, 4, none⟩ (.int .i64 n)) (some c)) := gput (gtrans HG5.out hg56) (by omega) _
  have q4 := hd6.1.cell 4 rfl
  have z4 := hd6.1.frozen 4
  clear hn hc6 hg6 hg56 hd6 HD5 HC5 HG5 s2
  go_upto_region 7 with fail
  obtain ⟨w7, hw7⟩ : ∃ w7, w6.setCell ⟨b, 4, none⟩ (.int .i64 n) = w7 := ⟨_, rfl⟩
  rw [hw7] at HD7 HC7 HG7 ⊢
  clear hw7 q4 z4
  have hc7w : c < w7.heap.size := HC7.out.lt
  have hb7 : b < w7.heap.size := HD7.out.1.lt
  go_wp2_with fail
  refine (l1Int_any B c a len cap zs w7.heap.size 3 3 [1, 3, 24] _ (HC7.out.new _) hl (heap_alloc_new w7 _) (by omega) rfl (by omega) (by omega)).mono ?_
  rintro _ w8 ⟨m, rfl, hm, hc8, hg8⟩
  obtain ⟨mm, rfl⟩ : ∃ mm : Nat, m = (mm : Int) := by
    simp only [List.mem_cons, List.not_mem_nil, or_false] at hm
    exact ⟨m.toNat, by omega⟩
  have hm24 : mm ≤ 24 := by
    simp only [List.mem_cons, List.not_mem_nil, or_false] at hm
    omega
  have hg78 : w7.grownBy w8 (some c) := gtrans (World.grownBy_alloc w7 _ _) hg8
  have HD8 : Hid (RV w w8 b e seq 2 id n none 0 0 []) := HD7.out.grown hg78 (fun q e => by injection e with e; omega)
  have HC8 : Hid (Cur w8 B c a len cap zs) := hc8
  have HG8 : Hid (w.grownBy w8 (some c)) := gtrans HG7.out hg78
  clear hm hc8 hg8 hg78 HD7 HC7 HG7
  have hb8 : b < w8.heap.size := HD8.out.1.lt
  go_wp2_with fail
  refine (l1Bytes_any B c a len cap zs mm w8 HC8.out hl (by omega)).mono ?_
  rintro _ w9 ⟨g, cp, ds, rfl, _, ho9, hc9, hg9⟩
  have hd9 := HD8.out.grown hg9 (fun q e => by injection e with e; omega)
  have HD10 : Hid (RV w (w9.setCell ⟨b, 5, none⟩ (.slice (some ⟨g, 0, none⟩) mm cp)) b e seq 2 id n (some ⟨g, 0, none⟩) mm cp ds) := hd9.setD ho9 hb8
  have HC10 : Hid (Cur (w9.setCell ⟨b, 5, none⟩ (.slice (some ⟨g, 0, none⟩) mm cp)) B c a len cap zs) := hc9.put (by omega) _
  have HG10 : Hid (w.grownBy (w9.setCell ⟨b, 5, none⟩ (.slice (some ⟨g, 0, none⟩) mm cp)) (some c)) := gput (gtrans HG8.out hg9) (by omega) _
  have q5 := hd9.1.cell 5 rfl
  have z5 := hd9.1.frozen 5
  clear ho9 hc9 hg9 hd9 HD8 HC8 HG8
  go_upto_region 8 with fail
  obtain ⟨w10, hw10⟩ : ∃ w10, w9.setCell ⟨b, 5, none⟩ (.slice (some ⟨g, 0, none⟩) mm cp) = w10 := ⟨_, rfl⟩
  rw [hw10] at HD10 HC10 HG10 ⊢
  clear hw10 q5 z5
  have c0 := HD10.out.1.cell 0 rfl
  have c1 := HD10.out.1.cell 1 rfl
  have c2 := HD10.out.1.cell 2 rfl
  have c3 := HD10.out.1.cell 3 rfl
  have c4 := HD10.out.1.cell 4 rfl
  have c5 := HD10.out.1.cell 5 rfl
  have r0 := HD10.out.2.1.cell 0 rfl
  have r1 := HD10.out.2.1.cell 1 rfl
  have r2 := HD10.out.2.1.cell 2 rfl
  have r3 := HD10.out.2.1.cell 3 rfl
  have r4 := HD10.out.2.1.cell 4 rfl
  have r5 := HD10.out.2.1.cell 5 rfl
  have f0 := HD10.out.2.1.frozen 0
  have f1 := HD10.out.2.1.frozen 1
  have f2 := HD10.out.2.1.frozen 2
  have f3 := HD10.out.2.1.frozen 3
  have f4 := HD10.out.2.1.frozen 4
  have f5 := HD10.out.2.1.frozen 5
  have HR := (show Hid _ from HD10.out.done HI9.out (by omega))
  have HCf := (show Hid _ from ((((((HC10.out.put (k := 0) hcw (.int .i64 e)).put (k := 1) hcw (.int .i64 seq)).put (k := 2) hcw (.int .i64 2)).put (k := 3) hcw (.string id)).put (k := 4) hcw (.int .i64 n)).put (k := 5) hcw (.slice (some ⟨g, 0, none⟩) mm cp)))
  have HGf := (show Hid _ from gput (k := 5) (gput (k := 4) (gput (k := 3) (gput (k := 2) (gput (k := 1) (gput (k := 0) HG10.out (Nat.le_refl _) (.int .i64 e)) (Nat.le_refl _) (.int .i64 seq)) (Nat.le_refl _) (.int .i64 2)) (Nat.le_refl _) (.string id)) (Nat.le_refl _) (.int .i64 n)) (Nat.le_refl _) (.slice (some ⟨g, 0, none⟩) mm cp))
  clear HD10 HC10 HG10
  go_wp2_with fail
  refine bodyPost_ret (v := .agg #[.int .i64 e, .int .i64 seq, .int .i64 2, .string id, .int .i64 n, .slice (some ⟨g, 0, none⟩) mm cp]) (by simp [results, Tryd.f76, go_sem, r0, r1, r2, r3, r4, r5]) rfl ?_
  exact ⟨⟨_, rfl, HR.out⟩, HCf.out, HGf.out⟩

end Go.Proofs.YtenkpgnkkkgdmaeDoor
