/- Tables that are drawn, some of them not right. For codes of at most 2^40 bytes. -/
import Derived.Test.YtljhplddgcmmoabDrawTabs
import Derived.Test.YtljhplddgcmmoabHimStep
import Derived.Test.YtljhplddgcmmoabTabStep
import Derived.Shelf.Abstract
namespace Go.Proofs.Ytljhplddgcmmoab
open Go.RowKit Go.Shelf
set_option linter.unusedVariables false

theorem four_new (w : World) (x y x' y' : ByteArray) (t : TypeId) : ∀ j u, (fieldCells [(x, y), (x', y')])[j]? = some u → (w.alloc (.cells #[.string x, .string y, .string x', .string y'] t)).cell? ((⟨w.heap.size, 0, none⟩ : Addr).add j) = some u := by
  intro j u hj
  have hadd : (⟨w.heap.size, 0, none⟩ : Addr).add j = ⟨w.heap.size, j, none⟩ := by unfold Addr.add; split <;> simp_all
  rw [hadd, cell_of_row _ _ _ _ _ _ (heap_alloc_new w (.cells #[.string x, .string y, .string x', .string y'] t))]
  simpa [fieldCells] using hj

set_option maxRecDepth 10000 in
set_option maxHeartbeats 3200000 in
theorem l4Any_any (B c : Nat) (a : Option Addr) (len cap : Nat) (zs : List Int) (w : World) (hcur : Cur w B c a len cap zs) (hl : len ≤ 1099511627776) :
    Calls Try.prog 54 #[.pointer (some ⟨c, 0, none⟩)] w fun e w' => ∃ (m : Int) (v : Value) (n : Nat) (xs : List Fld), e = .returned (.agg #[.int .i64 m, v]) ∧ (n ≤ 7 ∧ fldBytes xs ≤ 560) ∧ OwnF w' w.heap.size v n xs ∧ Cur w' B c a len cap zs ∧ w.grownBy w' (some c) := by
  have hcl := hcur.lt
  obtain ⟨w1, hw1⟩ : ∃ w1, w.alloc (.cells #[.int .i64 0, .slice none 0 0] 34) = w1 := ⟨_, rfl⟩
  have HQ1 : Hid (Box2 w1 w.heap.size 34 (.int .i64 0) (.slice none 0 0)) := by show Box2 _ _ _ _ _; rw [← hw1]; exact Box2.new _ _ _ _
  have hs1 : w1.heap.size = w.heap.size + 1 := by rw [← hw1]; simp
  have HC1 : Hid (Cur w1 B c a len cap zs) := by rw [← hw1]; exact hcur.new _
  have HG1 : Hid (w.grownBy w1 (some c)) := by show World.grownBy _ _ _; rw [← hw1]; exact World.grownBy_alloc _ _ _
  clear hcur
  go_enter Try.func54, Try.ntmps54
  go_wp2_with fail
  refine (l4Draw_any B c a len cap zs _ HC1.out hl).mono ?_
  rintro e w2 ⟨m, v, n, xs, rfl, ⟨hm0, hm1, hn, hfb⟩, ho2, hc2, hg2⟩
  obtain ⟨av, cv, rfl⟩ := ho2.shape
  have HC2 : Hid (Cur w2 B c a len cap zs) := hc2
  have HG2 : Hid (w.grownBy w2 (some c)) := gtrans HG1.out hg2
  have HQ2 : Hid (Box2 w2 w.heap.size 34 (.int .i64 0) (.slice none 0 0)) := HQ1.out.grown hg2 (by intro e; injection e with e; omega)
  have HO2 : Hid (OwnF w2 w.heap.size (.slice av n cv) n xs) := ⟨own_down ho2.1 (by omega), ho2.2⟩
  have hs2 : w.heap.size < w2.heap.size := HQ2.out.lt
  clear ho2 hc2 hg2 HC1 HG1 HQ1 hw1
  go_wp2_with fail
  obtain ⟨w3, hw3⟩ : ∃ w3, w2.alloc (.cells #[.int .i64 m, .slice av n cv] 34) = w3 := ⟨_, rfl⟩
  have HT3 : Hid (Box2 w3 w2.heap.size 34 (.int .i64 m) (.slice av n cv)) := by show Box2 _ _ _ _ _; rw [← hw3]; exact Box2.new _ _ _ _
  have HC3 : Hid (Cur w3 B c a len cap zs) := by rw [← hw3]; exact HC2.out.new _
  have HG3 : Hid (w.grownBy w3 (some c)) := by show World.grownBy _ _ _; rw [← hw3]; exact gnew HG2.out _
  have HQ3 : Hid (Box2 w3 w.heap.size 34 (.int .i64 0) (.slice none 0 0)) := by show Box2 _ _ _ _ _; rw [← hw3]; exact HQ2.out.alloc _
  have HO3 : Hid (OwnF w3 w.heap.size (.slice av n cv) n xs) := by rw [← hw3]; exact HO2.out.stays ((Below.refl _ _).alloc (Nat.le_refl _) _)
  rw [hw3]
  clear hw3 HC2 HG2 HQ2 HO2
  generalize w2.heap.size = tb at *
  refine (l1Below_any B c a len cap zs 10 _ HC3.out hl (by omega) (by omega)).mono ?_
  rintro e w4 ⟨x, rfl, hx0, hx1, hc4, hg4⟩
  have HT4 : Hid (Box2 w4 tb 34 (.int .i64 m) (.slice av n cv)) := HT3.out.grown hg4 (by intro e; injection e with e; omega)
  have HC4 : Hid (Cur w4 B c a len cap zs) := hc4
  have HG4 : Hid (w.grownBy w4 (some c)) := gtrans HG3.out hg4
  have HQ4 : Hid (Box2 w4 w.heap.size 34 (.int .i64 0) (.slice none 0 0)) := HQ3.out.grown hg4 (by intro e; injection e with e; omega)
  have HO4 : Hid (OwnF w4 w.heap.size (.slice av n cv) n xs) := HO3.out.grown hg4 (.inr (own_cur HO3.out.1 hcl))
  clear hc4 hg4 HT3 HC3 HG3 HQ3 HO3
  have htl : tb < w4.heap.size := HT4.out.lt
  by_cases hx00 : x = 0
  · subst hx00
    go_wp2_with fail
    refine (l1Int_any B c a len cap zs w4.heap.size 3 3 [-1, 4097, 10] _ (HC4.out.new _) hl (heap_alloc_new w4 _) (by omega) rfl (by omega) (by omega)).mono ?_
    rintro e w5 ⟨m5, rfl, hm5, hc5, hg5⟩
    have HT5 : Hid (Box2 w5 tb 34 (.int .i64 m) (.slice av n cv)) := (HT4.out.alloc _).grown hg5 (by intro e; injection e with e; omega)
    have HQ5 : Hid (Box2 w5 w.heap.size 34 (.int .i64 0) (.slice none 0 0)) := (HQ4.out.alloc _).grown hg5 (by intro e; injection e with e; omega)
    have HO5 : Hid (OwnF w5 w.heap.size (.slice av n cv) n xs) := (HO4.out.stays ((Below.refl _ _).alloc (Nat.le_refl _) _)).grown hg5 (.inr (own_cur HO4.out.1 hcl))
    have HC5 : Hid (Cur w5 B c a len cap zs) := hc5
    have HG5 : Hid (w.grownBy w5 (some c)) := gtrans (gnew HG4.out _) hg5
    clear hm5 hc5 hg5 HT4 HC4 HG4 HQ4 HO4
    obtain ⟨w6, hw6⟩ : ∃ w6, w5.setCell ⟨tb, 0, none⟩ (.int .i64 m5) = w6 := ⟨_, rfl⟩
    have HT6 : Hid (Box2 w6 tb 34 (.int .i64 m5) (.slice av n cv)) := by show Box2 _ _ _ _ _; rw [← hw6]; exact two_set0 HT5.out _
    have HQ6 : Hid (Box2 w6 w.heap.size 34 (.int .i64 0) (.slice none 0 0)) := by show Box2 _ _ _ _ _; rw [← hw6]; exact (set_block_other _ _ _ _ _ (by omega)).trans HQ5.out
    have HO6 : Hid (OwnF w6 w.heap.size (.slice av n cv) n xs) := by rw [← hw6]; exact HO5.out.grown (gset _ tb 0 _) (.inr (own_other' HO5.out.1 HT5.out (by decide)))
    have HC6 : Hid (Cur w6 B c a len cap zs) := by rw [← hw6]; exact HC5.out.put (by omega) _
    have HG6 : Hid (w.grownBy w6 (some c)) := by show World.grownBy _ _ _; rw [← hw6]; exact gput HG5.out (by omega) _
    obtain ⟨s0, s1, s2, s3⟩ := HT5.out.cells
    obtain ⟨p0, p1, p2, p3⟩ := (HT6.out).cells
    obtain ⟨q0, q1, q2, q3⟩ := (HQ6.out).cells
    have HR : Hid (Box2 ((w6.setCell ⟨w.heap.size, 0, none⟩ (.int .i64 m5)).setCell ⟨w.heap.size, 1, none⟩ (.slice av n cv)) w.heap.size 34 (.int .i64 m5) (.slice av n cv)) := two_set1 (two_set0 (HQ6.out) _) _
    have HOr : Hid (OwnF ((w6.setCell ⟨w.heap.size, 0, none⟩ (.int .i64 m5)).setCell ⟨w.heap.size, 1, none⟩ (.slice av n cv)) w.heap.size (.slice av n cv) n xs) := by
      have hne := own_other' (HO6.out).1 (HQ6.out) (by decide)
      exact (OwnF.grown (HO6.out) (gset _ w.heap.size 0 _) (.inr hne)).grown (gset _ w.heap.size 1 _) (.inr hne)
    go_wp2_with fail
    obtain ⟨r0, r1, _, _⟩ := HR.out.cells
    refine bodyPost_ret (v := .agg #[.int .i64 m5, .slice av n cv]) (by simp [results, Try.f54, go_sem, r0, r1]) rfl ?_
    exact ⟨m5, _, n, xs, rfl, ⟨by omega, by omega⟩, HOr.out, (Cur.put (HC6.out) hcl _).put hcl _, gput (gput (HG6.out) (Nat.le_refl _) _) (Nat.le_refl _) _⟩
  · have hx00' : (x == 0) = false := by simp [hx00]
    by_cases hx11 : x = 1
    · subst hx11
      obtain ⟨i0, hi, hz0, hz1, hz2⟩ := info_parts info_field
      have HEnt : Hid (∀ args w, (callFunc 52 args).run Try.prog w = .ok (.enter 52 args) w) := enters_of Try.func52 (by kernel_rfl) rfl
      obtain ⟨b0, b1, b2, b3⟩ := HT4.out.cells
      have HCd : Hid (Cur w4.drew B c a len cap zs) := HC4.out
      go_wp2_with fail
      go_region_law (first
        | (refine step_call_any rfl 52 (.tmp 18) 63 rfl HEnt.out (.pointer (some ⟨c, 0, none⟩)) rfl _ (l4Field_any B c a len cap zs _ HCd.out hl) ?_; rintro e y1 ⟨x1, z1, rfl, hx1, hz1', hc1, hg1⟩; refine ⟨_, rfl, ?_⟩; obtain ⟨d0, d1, _, _⟩ := (Box2.grown (W := w4.drew) HT4.out hg1 (by intro e; injection e with e; omega)).cells)
        | (refine step_call_any rfl 52 (.tmp 20) 63 rfl HEnt.out (.pointer (some ⟨c, 0, none⟩)) rfl _ (l4Field_any B c a len cap zs _ hc1 hl) ?_; rintro e y2 ⟨x2, z2, rfl, hx2, hz2', hc2, hg2⟩; refine ⟨_, rfl, ?_⟩; have hT2 : Box2 y2 tb 34 (.int .i64 m) (.slice av n cv) := (Box2.grown (W := w4.drew) HT4.out hg1 (by intro e; injection e with e; omega)).grown hg2 (by intro e; injection e with e; omega); obtain ⟨e0, e1, _, _⟩ := hT2.cells; obtain ⟨f0, f1, _, _⟩ := (hT2.alloc (.cells #[.string x1, .string z1, .string x2, .string z2] 36)).cells; have hO2 : OwnF y2 w.heap.size (.slice av n cv) n xs := (OwnF.grown (W := w4.drew) HO4.out hg1 (.inr (own_cur HO4.out.1 hcl))).grown hg2 (.inr (own_cur HO4.out.1 hcl)); have hw2 : w.heap.size ≤ y2.heap.size := Nat.le_trans HG4.out.size (Nat.le_trans hg1.size hg2.size))
        | (refine step_append_own rfl (.tmp 17) (.tmp 22) 32 rfl w.heap.size 36 i0 (.agg #[.string ⟨#[]⟩, .string ⟨#[]⟩]) 2 32 Try.underlying32 hi hz0 hz1 hz2 rfl (by decide) (.slice av n cv) n (fieldCells xs) rfl (hO2.1.alloc _) ⟨y2.heap.size, 0, none⟩ 2 2 (fieldCells [(x1, z1), (x2, z2)]) rfl rfl (four_new y2 x1 z1 x2 z2 _) (fieldCells_one _) (by unfold maxLen; omega) (by omega) (by rw [World.size_alloc]; omega) ?_; intro v5 w5 hown hgrow; obtain ⟨a5, c5, rfl⟩ := own_shape hown; have hne5 := own_other' hO2.1 hT2 (by decide); have hT5 : Box2 w5 tb 34 (.int .i64 m) (.slice av n cv) := (hT2.alloc _).grown hgrow hne5; obtain ⟨k0, k1, k2, k3⟩ := hT5.cells))
      all_goals
        have hQ5 : Box2 w5 w.heap.size 34 (.int .i64 0) (.slice none 0 0) := by
          have hQ2 : Box2 y2 w.heap.size 34 (.int .i64 0) (.slice none 0 0) := (Box2.grown (W := w4.drew) HQ4.out hg1 (by intro e; injection e with e; omega)).grown hg2 (by intro e; injection e with e; omega)
          exact (hQ2.alloc _).grown hgrow (own_other' hO2.1 hQ2 (by decide))
        have hG5 : w.grownBy w5 (some c) := gown (gnew (gtrans (gtrans HG4.out (gtrans (gdrew w4 1 (some c)) hg1)) hg2) _) hgrow (fun j hj => (hO2.1.lt j hj).1)
        have hC5 : Cur w5 B c a len cap zs := (hc2.new _).kept hgrow (fun j hj => by have h1 := (hO2.1.lt j hj).1; have h2 := hc2.1; omega)
        have hO5 : OwnF w5 w.heap.size (.slice a5 (n + 2) c5) (n + 2) (xs ++ [(x1, z1), (x2, z2)]) := by
          refine ⟨by rw [fieldCells_append]; exact hown, fun f hf => ?_⟩
          rcases List.mem_append.1 hf with h | h
          · exact HO4.out.2 f h
          · simp only [List.mem_cons, List.not_mem_nil, or_false] at h
            rcases h with rfl | rfl
            · exact ⟨by show _ ≤ 9223372036854775807; dsimp only; omega, by show _ ≤ 9223372036854775807; dsimp only; omega⟩
            · exact ⟨by show _ ≤ 9223372036854775807; dsimp only; omega, by show _ ≤ 9223372036854775807; dsimp only; omega⟩
        have hfb2 : fldBytes (xs ++ [(x1, z1), (x2, z2)]) ≤ 560 := by
          have : fldBytes (xs ++ [(x1, z1), (x2, z2)]) = fldBytes xs + ((x1.size + z1.size) + (x2.size + z2.size)) := by simp [fldBytes]
          omega
        obtain ⟨w6, hw6⟩ : ∃ w6, w5.setCell ⟨tb, 1, none⟩ (.slice a5 (n + 2) c5) = w6 := ⟨_, rfl⟩
        have HT6 : Hid (Box2 w6 tb 34 (.int .i64 m) (.slice a5 (n + 2) c5)) := by show Box2 _ _ _ _ _; rw [← hw6]; exact two_set1 hT5 _
        have HQ6 : Hid (Box2 w6 w.heap.size 34 (.int .i64 0) (.slice none 0 0)) := by show Box2 _ _ _ _ _; rw [← hw6]; exact (set_block_other _ _ _ _ _ (by omega)).trans hQ5
        have HO6 : Hid (OwnF w6 w.heap.size (.slice a5 (n + 2) c5) (n + 2) (xs ++ [(x1, z1), (x2, z2)])) := by rw [← hw6]; exact hO5.grown (gset _ tb 1 _) (.inr (own_other' hO5.1 hT5 (by decide)))
        have HC6 : Hid (Cur w6 B c a len cap zs) := by rw [← hw6]; exact hC5.put (by omega) _
        have HG6 : Hid (w.grownBy w6 (some c)) := by show World.grownBy _ _ _; rw [← hw6]; exact gput hG5 (by omega) _
        generalize xs ++ [(x1, z1), (x2, z2)] = ys at *
        clear hown hgrow hT5 hQ5 hG5 hC5 hO5 hT2 hO2 hc1 hg1 hc2 hg2 d0 d1 e0 e1 f0 f1 b0 b1 b2 b3
        obtain ⟨p0, p1, p2, p3⟩ := (HT6.out).cells
        obtain ⟨q0, q1, q2, q3⟩ := (HQ6.out).cells
        have HR : Hid (Box2 ((w6.setCell ⟨w.heap.size, 0, none⟩ (.int .i64 m)).setCell ⟨w.heap.size, 1, none⟩ (.slice a5 (n + 2) c5)) w.heap.size 34 (.int .i64 m) (.slice a5 (n + 2) c5)) := two_set1 (two_set0 (HQ6.out) _) _
        have HOr : Hid (OwnF ((w6.setCell ⟨w.heap.size, 0, none⟩ (.int .i64 m)).setCell ⟨w.heap.size, 1, none⟩ (.slice a5 (n + 2) c5)) w.heap.size (.slice a5 (n + 2) c5) (n + 2) ys) := by
          have hne := own_other' (HO6.out).1 (HQ6.out) (by decide)
          exact (OwnF.grown (HO6.out) (gset _ w.heap.size 0 _) (.inr hne)).grown (gset _ w.heap.size 1 _) (.inr hne)
        go_wp2_with fail
        obtain ⟨r0, r1, _, _⟩ := HR.out.cells
        refine bodyPost_ret (v := .agg #[.int .i64 m, .slice a5 (n + 2) c5]) (by simp [results, Try.f54, go_sem, r0, r1]) rfl ?_
        exact ⟨m, _, (n + 2), ys, rfl, ⟨by omega, by omega⟩, HOr.out, (Cur.put (HC6.out) hcl _).put hcl _, gput (gput (HG6.out) (Nat.le_refl _) _) (Nat.le_refl _) _⟩
    · have hx11' : (x == 1) = false := by simp [hx11]
      obtain ⟨p0, p1, p2, p3⟩ := (HT4.out).cells
      obtain ⟨q0, q1, q2, q3⟩ := (HQ4.out).cells
      have HR : Hid (Box2 ((w4.setCell ⟨w.heap.size, 0, none⟩ (.int .i64 m)).setCell ⟨w.heap.size, 1, none⟩ (.slice av n cv)) w.heap.size 34 (.int .i64 m) (.slice av n cv)) := two_set1 (two_set0 (HQ4.out) _) _
      have HOr : Hid (OwnF ((w4.setCell ⟨w.heap.size, 0, none⟩ (.int .i64 m)).setCell ⟨w.heap.size, 1, none⟩ (.slice av n cv)) w.heap.size (.slice av n cv) n xs) := by
        have hne := own_other' (HO4.out).1 (HQ4.out) (by decide)
        exact (OwnF.grown (HO4.out) (gset _ w.heap.size 0 _) (.inr hne)).grown (gset _ w.heap.size 1 _) (.inr hne)
      go_wp2_with fail
      obtain ⟨r0, r1, _, _⟩ := HR.out.cells
      refine bodyPost_ret (v := .agg #[.int .i64 m, .slice av n cv]) (by simp [results, Try.f54, go_sem, r0, r1]) rfl ?_
      exact ⟨m, _, n, xs, rfl, ⟨by omega, by omega⟩, HOr.out, (Cur.put (HC4.out) hcl _).put hcl _, gput (gput (HG4.out) (Nat.le_refl _) _) (Nat.le_refl _) _⟩

end Go.Proofs.Ytljhplddgcmmoab
