/- The draw of a disk, a number and a text. For codes of at most 2^40 bytes. -/
import Derived.Test.YtnbmlkkjgecigaeDrawDskAny
namespace Go.Proofs.Ytnbmlkkjgecigae
open Go.RowKit
set_option linter.unusedVariables false

def PutDrawn (v : Value) (w' : World) : Prop := ∃ A n C A' n' C' X Y i s, v = .tuple #[.agg #[.slice A n C, .slice A' n' C'], .int .i64 i, .string s] ∧ n ≤ 7 ∧ n' ≤ 7 ∧ -1 ≤ i ∧ i ≤ 9 ∧ s.size ≤ 65 ∧ Strs w' A n X ∧ Strs w' A' n' Y

set_option maxRecDepth 10000 in
set_option maxHeartbeats 3200000 in
theorem drawPut_any (a : Option Addr) (len cap : Nat) (zs : List Int) (w : World) (hs : Seg w a len zs) (hl : len ≤ 1099511627776) :
    Calls Try.prog 12 #[.slice a len cap] w fun e w' => (∃ v, e = .returned v ∧ PutDrawn v w') ∧ Below w.heap.size w w' := by
  obtain ⟨j0, ji, jz0, jz1, jz2⟩ := info_parts Try.info5
  obtain ⟨w1, hw1⟩ : ∃ w1, w.alloc (.cells #[.slice none 0 0, .slice none 0 0] 26) = w1 := ⟨_, rfl⟩
  have HE : Hid (w.alloc (.cells #[.slice none 0 0, .slice none 0 0] 26) = w1) := hw1
  have HQ1 : Hid (Box2R w1 w.heap.size 26 (.slice none 0 0) (.slice none 0 0)) := by show Box2R _ _ _ _ _; rw [← hw1]; exact Box2R.new _ _ _ _
  have HB1 : Hid (Below w.heap.size w w1) := by show Below _ _ _; rw [← hw1]; exact (Below.refl _ _).alloc (Nat.le_refl _) _
  have HS : Hid (Seg w1 a len zs) := hs.below HB1.out
  clear hs hw1
  go_enter Try.func12, Try.ntmps12
  go_wp2_with fail
  rw [HE.out]
  clear HE
  refine (l1New_any a len cap zs w1 HS.out hl).mono ?_
  rintro e w2 ⟨rfl, hc2, hb2⟩
  have hlt : w.heap.size < w1.heap.size := HQ1.out.lt
  have HQ2 : Hid (Box2R w2 w.heap.size 26 (.slice none 0 0) (.slice none 0 0)) := HQ1.out.stays hb2
  have HB2 : Hid (Below w.heap.size w w2) := HB1.out.trans (hb2.mono HB1.out.size)
  obtain ⟨cc, hcc⟩ : ∃ cc, w1.heap.size = cc := ⟨_, rfl⟩
  rw [hcc] at hc2 hlt ⊢
  have HC2 : Hid (Cur w2 cc cc a len cap zs) := hc2
  clear hc2 hb2 HQ1 HB1 HS hcc
  go_wp2_with fail
  refine (l12Some_any cc cc a len cap zs w2 HC2.out hl).mono ?_
  rintro e w3 ⟨s, rfl, hs3, hc3, hg3⟩
  have HC3 : Hid (Cur w3 cc cc a len cap zs) := hc3
  have HB3 : Hid (Below w.heap.size w w3) := HB2.out.grown hg3 HB2.out.size (fun k e => by injection e with e; omega)
  have HQ3 : Hid (Box2R w3 w.heap.size 26 (.slice none 0 0) (.slice none 0 0)) := HQ2.out.grown hg3 (fun e => by injection e with e; omega)
  clear hc3 hg3 HC2 HB2 HQ2
  go_wp2_with fail
  refine (l1Once_any cc cc a len cap zs 10 w3 HC3.out hl (by omega) (by omega)).mono ?_
  rintro e w4 ⟨bb, rfl, hc4, hg4⟩
  have HC4 : Hid (Cur w4 cc cc a len cap zs) := hc4
  have HB4 : Hid (Below w.heap.size w w4) := HB3.out.grown hg4 HB3.out.size (fun k e => by injection e with e; omega)
  have HQ4 : Hid (Box2R w4 w.heap.size 26 (.slice none 0 0) (.slice none 0 0)) := HQ3.out.grown hg4 (fun e => by injection e with e; omega)
  clear hc4 hg4 HC3 HB3 HQ3
  cases bb
  · have HC := HC4
    have HB := HB4
    have HQ := HQ4
    clear HC4 HB4 HQ4
    go_wp2_with fail
    refine (l12Any_any cc cc a len cap zs w4 HC.out hl).mono ?_
    rintro e w6 ⟨⟨v, rfl, X, Y, hans, hX7, hY7⟩, hc6, hg6⟩
    obtain ⟨n, hn⟩ : ∃ n, X.length = n := ⟨_, rfl⟩
    obtain ⟨n', hn'⟩ : ∃ n', Y.length = n' := ⟨_, rfl⟩
    obtain ⟨A, C, A', C', rfl, o1, o2, hap⟩ := hans.at hn hn'
    rw [hn] at hX7
    rw [hn'] at hY7
    have hcl : cc < w4.heap.size := HC.out.lt
    have HC6 : Hid (Cur w6 cc cc a len cap zs) := hc6
    have HB6 : Hid (Below w.heap.size w w6) := HB.out.grown hg6 HB.out.size (fun k e => by injection e with e; omega)
    have HQ6 : Hid (Box2R w6 w.heap.size 26 (.slice none 0 0) (.slice none 0 0)) := HQ.out.grown hg6 (fun e => by injection e with e; omega)
    have HO6 : Hid (OwnSt w6 w4.heap.size (.slice A n C) n X ∧ OwnSt w6 w4.heap.size (.slice A' n' C') n' Y) := ⟨o1, o2⟩
    have hz6 : w4.heap.size ≤ w6.heap.size := hg6.size
    clear hn hn' hans hc6 hg6 o1 o2 hap HC HB HQ
    go_wp2_with fail
    refine (l1Int_any cc cc a len cap zs w6.heap.size 5 5 [0, 1, 3, -1, 9] _ (HC6.out.new _) hl (heap_alloc_new w6 _) (by omega) rfl (by omega) (by omega)).mono ?_
    rintro e w7 ⟨x, rfl, hx, hc7, hg7⟩
    have hx9 : -1 ≤ x ∧ x ≤ 9 := by
      simp only [List.mem_cons, List.not_mem_nil, or_false] at hx
      omega
    have hg67 : w6.grownBy w7 (some cc) := gtrans (World.grownBy_alloc w6 _ _) hg7
    have hQ7 := HQ6.out.grown hg67 (fun e => by injection e with e; omega)
    have HF : Hid (PutDrawn (.tuple #[.agg #[.slice A n C, .slice A' n' C'], .int .i64 x, .string s]) ((w7.setCell ⟨w.heap.size, 0, none⟩ (.slice A n C)).setCell ⟨w.heap.size, 1, none⟩ (.slice A' n' C')) ∧ Below w.heap.size w ((w7.setCell ⟨w.heap.size, 0, none⟩ (.slice A n C)).setCell ⟨w.heap.size, 1, none⟩ (.slice A' n' C'))) := by
      have p1 := HO6.out.1.kept hg67 (fun q e e2 => by injection e with e; have := (HO6.out.1.lt q e2).1; omega)
      have p2 := HO6.out.2.kept hg67 (fun q e e2 => by injection e with e; have := (HO6.out.2.lt q e2).1; omega)
      have n1 : blkOf (.slice A n C) ≠ some w.heap.size := fun e => by have := (p1.lt _ e).1; omega
      have n2 : blkOf (.slice A' n' C') ≠ some w.heap.size := fun e => by have := (p2.lt _ e).1; omega
      have hB7 := HB6.out.grown hg67 HB6.out.size (fun k e => by injection e with e; omega)
      exact ⟨⟨A, n, C, A', n', C', X, Y, x, s, rfl, hX7, hY7, hx9.1, hx9.2, by omega, ((p1.setCell n1 _).setCell n1 _).strs, ((p2.setCell n2 _).setCell n2 _).strs⟩, (hB7.setCell (Nat.le_refl _) _).setCell (Nat.le_refl _) _⟩
    obtain ⟨r0, r1⟩ := hQ7.cells
    have f0 := hQ7.frozen 0
    have f1 := hQ7.frozen 1
    clear hx hx9 hc7 hg7 hg67 hQ7 HC6 HB6 HQ6 HO6
    go_wp2_with fail
    refine bodyPost_ret (v := .tuple #[.agg #[.slice A n C, .slice A' n' C'], .int .i64 x, .string s]) (by simp [results, Try.f12, go_sem, r0, r1]) rfl ?_
    exact ⟨⟨_, rfl, HF.out.1⟩, HF.out.2⟩
  · have HC := HC4
    have HB := HB4
    have HQ := HQ4
    clear HC4 HB4 HQ4
    go_wp2_with fail
    refine (l1Below_any cc cc a len cap zs 2 w4 HC.out hl (by omega) (by omega)).mono ?_
    rintro e y1 ⟨k, rfl, hk0, hk1, hc1, hg1⟩
    obtain ⟨q, hq⟩ := Int.eq_ofNat_of_zero_le (show 0 ≤ 64 + k by omega)
    have hqs : q ≤ 65 := by omega
    have hqw : IntKind.i64.wrap (q : Int) = (q : Int) := wrap_i64_small q (by omega)
    have hmk := run_make_zero (P := Try.prog) y1 22 5 j0 Try.underlying22 ji jz0 jz1 jz2 q (by omega)
    obtain ⟨y2, hy2⟩ : ∃ y2, y1.alloc (.cells (List.replicate q (.int .u8 0)).toArray 5) = y2 := ⟨_, rfl⟩
    obtain ⟨s2, hsz, hcv⟩ := run_text_zero (P := Try.prog) (y1.alloc (.cells (List.replicate q (.int .u8 0)).toArray 5)) 22 9 5 Try.underlying22 (by kernel_rfl) (by kernel_rfl) y1.heap.size q q (heap_alloc_new _ _)
    have hb1 := HB.out.grown hg1 HB.out.size (fun k e => by injection e with e; omega)
    have hB2 := hb1.alloc hb1.size (.cells (List.replicate q (.int .u8 0)).toArray 5)
    have hC2 := hc1.new (.cells (List.replicate q (.int .u8 0)).toArray 5)
    have hQ2 := (HQ.out.grown hg1 (fun e => by injection e with e; omega)).alloc (.cells (List.replicate q (.int .u8 0)).toArray 5)
    rw [hy2] at hmk hcv hB2 hC2 hQ2
    clear HC HB HQ hy2 hc1 hg1 hb1
    have HC : Hid (Cur y2 cc cc a len cap zs) := hC2
    have HB : Hid (Below w.heap.size w y2) := hB2
    have HQ : Hid (Box2R y2 w.heap.size 26 (.slice none 0 0) (.slice none 0 0)) := hQ2
    clear hB2 hC2 hQ2
    go_wp2_with fail
    clear hmk hcv hq hqw hs3
    have hs3 : s2.size ≤ 65 := by omega
    clear hsz
    have hss : True := trivial
    refine (l12Any_any cc cc a len cap zs y2 HC.out hl).mono ?_
    rintro e w6 ⟨⟨v, rfl, X, Y, hans, hX7, hY7⟩, hc6, hg6⟩
    obtain ⟨n, hn⟩ : ∃ n, X.length = n := ⟨_, rfl⟩
    obtain ⟨n', hn'⟩ : ∃ n', Y.length = n' := ⟨_, rfl⟩
    obtain ⟨A, C, A', C', rfl, o1, o2, hap⟩ := hans.at hn hn'
    rw [hn] at hX7
    rw [hn'] at hY7
    have hcl : cc < y2.heap.size := HC.out.lt
    have HC6 : Hid (Cur w6 cc cc a len cap zs) := hc6
    have HB6 : Hid (Below w.heap.size w w6) := HB.out.grown hg6 HB.out.size (fun k e => by injection e with e; omega)
    have HQ6 : Hid (Box2R w6 w.heap.size 26 (.slice none 0 0) (.slice none 0 0)) := HQ.out.grown hg6 (fun e => by injection e with e; omega)
    have HO6 : Hid (OwnSt w6 y2.heap.size (.slice A n C) n X ∧ OwnSt w6 y2.heap.size (.slice A' n' C') n' Y) := ⟨o1, o2⟩
    have hz6 : y2.heap.size ≤ w6.heap.size := hg6.size
    clear hn hn' hans hc6 hg6 o1 o2 hap HC HB HQ
    go_wp2_with fail
    refine (l1Int_any cc cc a len cap zs w6.heap.size 5 5 [0, 1, 3, -1, 9] _ (HC6.out.new _) hl (heap_alloc_new w6 _) (by omega) rfl (by omega) (by omega)).mono ?_
    rintro e w7 ⟨x, rfl, hx, hc7, hg7⟩
    have hx9 : -1 ≤ x ∧ x ≤ 9 := by
      simp only [List.mem_cons, List.not_mem_nil, or_false] at hx
      omega
    have hg67 : w6.grownBy w7 (some cc) := gtrans (World.grownBy_alloc w6 _ _) hg7
    have hQ7 := HQ6.out.grown hg67 (fun e => by injection e with e; omega)
    have HF : Hid (PutDrawn (.tuple #[.agg #[.slice A n C, .slice A' n' C'], .int .i64 x, .string s2]) ((w7.setCell ⟨w.heap.size, 0, none⟩ (.slice A n C)).setCell ⟨w.heap.size, 1, none⟩ (.slice A' n' C')) ∧ Below w.heap.size w ((w7.setCell ⟨w.heap.size, 0, none⟩ (.slice A n C)).setCell ⟨w.heap.size, 1, none⟩ (.slice A' n' C'))) := by
      have p1 := HO6.out.1.kept hg67 (fun q e e2 => by injection e with e; have := (HO6.out.1.lt q e2).1; omega)
      have p2 := HO6.out.2.kept hg67 (fun q e e2 => by injection e with e; have := (HO6.out.2.lt q e2).1; omega)
      have n1 : blkOf (.slice A n C) ≠ some w.heap.size := fun e => by have := (p1.lt _ e).1; omega
      have n2 : blkOf (.slice A' n' C') ≠ some w.heap.size := fun e => by have := (p2.lt _ e).1; omega
      have hB7 := HB6.out.grown hg67 HB6.out.size (fun k e => by injection e with e; omega)
      exact ⟨⟨A, n, C, A', n', C', X, Y, x, s2, rfl, hX7, hY7, hx9.1, hx9.2, by omega, ((p1.setCell n1 _).setCell n1 _).strs, ((p2.setCell n2 _).setCell n2 _).strs⟩, (hB7.setCell (Nat.le_refl _) _).setCell (Nat.le_refl _) _⟩
    obtain ⟨r0, r1⟩ := hQ7.cells
    have f0 := hQ7.frozen 0
    have f1 := hQ7.frozen 1
    clear hx hx9 hc7 hg7 hg67 hQ7 HC6 HB6 HQ6 HO6
    go_wp2_with fail
    refine bodyPost_ret (v := .tuple #[.agg #[.slice A n C, .slice A' n' C'], .int .i64 x, .string s2]) (by simp [results, Try.f12, go_sem, r0, r1]) rfl ?_
    exact ⟨⟨_, rfl, HF.out.1⟩, HF.out.2⟩

end Go.Proofs.Ytnbmlkkjgecigae
