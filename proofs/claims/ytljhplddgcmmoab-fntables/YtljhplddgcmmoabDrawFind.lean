/- The draw of the law on what is found. For codes of at most 2^40 bytes. -/
import Derived.Test.YtljhplddgcmmoabDrawAny
namespace Go.Proofs.Ytljhplddgcmmoab
open Go.RowKit Go.Shelf
set_option linter.unusedVariables false

set_option maxRecDepth 10000 in
set_option maxHeartbeats 400000 in
theorem l1Once_any (B c : Nat) (a : Option Addr) (len cap : Nat) (zs : List Int) (n : Int) (w : World) (hcur : Cur w B c a len cap zs) (hl : len ≤ 1099511627776) (hn1 : 1 ≤ n) (hn2 : n ≤ 1000000) :
    Calls Try.prog 53 #[.pointer (some ⟨c, 0, none⟩), .int .i64 n] w fun e w' => ∃ b : Bool, e = .returned (.bool b) ∧ Cur w' B c a len cap zs ∧ w.grownBy w' (some c) := by
  have HC : Hid _ := hcur
  clear hcur
  go_enter Try.func53, Try.ntmps53
  go_wp2_with fail
  refine (l1Below_any B c a len cap zs _ _ HC.out hl hn1 hn2).mono ?_
  rintro e w1 ⟨x, rfl, hx0, hx1, hc1, hg1⟩
  have HC1 : Hid _ := hc1
  have HG1 : Hid _ := hg1
  clear hc1 hg1
  go_wp2_with fail
  go_ret
  exact ⟨_, rfl, HC1.out, HG1.out⟩

/-- A table and a field are stored as the answer. -/
theorem found_end {w y1 : World} {base n cv : Nat} {av : Option Addr} {xs : List Fld} {u0 u1 v0 v1 : Value} (m : Int) (x y : ByteArray) (hB : Below w.heap.size w y1) (hQ : Box2 y1 w.heap.size 34 u0 u1) (hP : Box2 y1 (w.heap.size + 1) 36 v0 v1) (hO : OwnF y1 base (.slice av n cv) n xs) (hb : w.heap.size + 1 < base) {z : World}
    (hz : (((y1.setCell ⟨w.heap.size, 0, none⟩ (.int .i64 m)).setCell ⟨w.heap.size, 1, none⟩ (.slice av n cv)).setCell ⟨w.heap.size + 1, 0, none⟩ (.string x)).setCell ⟨w.heap.size + 1, 1, none⟩ (.string y) = z) :
    Box2 z w.heap.size 34 (.int .i64 m) (.slice av n cv) ∧ Box2 z (w.heap.size + 1) 36 (.string x) (.string y) ∧ OwnF z w.heap.size (.slice av n cv) n xs ∧ Below w.heap.size w z := by
  subst hz
  have hq := own_cur hO.1 (c := w.heap.size) (by omega)
  have hp := own_cur hO.1 (c := w.heap.size + 1) hb
  refine ⟨?_, ?_, ?_, ?_⟩
  · exact (set_block_other _ _ _ _ _ (by omega)).trans ((set_block_other _ _ _ _ _ (by omega)).trans (two_set1 (two_set0 hQ _) _))
  · refine two_set1 (two_set0 (x := v0) (y := v1) ?_ _) _
    exact (set_block_other _ _ _ _ _ (by omega)).trans ((set_block_other _ _ _ _ _ (by omega)).trans hP)
  · have h := (((hO.grown (gset _ w.heap.size 0 (.int .i64 m)) (.inr hq)).grown (gset _ w.heap.size 1 (.slice av n cv)) (.inr hq)).grown (gset _ (w.heap.size + 1) 0 (.string x)) (.inr hp)).grown (gset _ (w.heap.size + 1) 1 (.string y)) (.inr hp)
    exact ⟨own_down h.1 (by omega), h.2⟩
  · exact (((hB.setCell (p := ⟨w.heap.size, 0, none⟩) (Nat.le_refl _) _).setCell (p := ⟨w.heap.size, 1, none⟩) (Nat.le_refl _) _).setCell (p := ⟨w.heap.size + 1, 0, none⟩) (Nat.le_succ _) _).setCell (p := ⟨w.heap.size + 1, 1, none⟩) (Nat.le_succ _) _

set_option maxRecDepth 10000 in
set_option maxHeartbeats 1600000 in
theorem drawFind_any (a : Option Addr) (len cap : Nat) (zs : List Int) (w : World) (hs : Seg w a len zs) (hl : len ≤ 1099511627776) :
    Calls Try.prog 26 #[.slice a len cap] w fun e w' => ∃ (m : Int) (av : Option Addr) (n cv : Nat) (xs : List Fld) (x y : ByteArray), e = .returned (.tuple #[.agg #[.int .i64 m, .slice av n cv], .agg #[.string x, .string y]]) ∧ (n ≤ 7 ∧ fldBytes xs ≤ 560 ∧ x.size ≤ 1000 ∧ y.size ≤ 1000) ∧ OwnF w' w.heap.size (.slice av n cv) n xs ∧ Below w.heap.size w w' := by
  obtain ⟨w1, hw1⟩ : ∃ w1, (w.alloc (.cells #[.int .i64 0, .slice none 0 0] 34)).alloc (.cells #[.string ⟨#[]⟩, .string ⟨#[]⟩] 36) = w1 := ⟨_, rfl⟩
  have HQ1 : Hid (Box2 w1 w.heap.size 34 (.int .i64 0) (.slice none 0 0)) := by show Box2 _ _ _ _ _; rw [← hw1]; exact (Box2.new _ _ _ _).alloc _
  have HP1 : Hid (Box2 w1 (w.heap.size + 1) 36 (.string ⟨#[]⟩) (.string ⟨#[]⟩)) := by show Box2 _ _ _ _ _; rw [← hw1, ← World.size_alloc w (.cells #[.int .i64 0, .slice none 0 0] 34)]; exact (Box2.new _ _ _ _)
  have HB1 : Hid (Below w.heap.size w w1) := by show Below _ _ _; rw [← hw1]; exact ((Below.refl _ _).alloc (Nat.le_refl _) _).alloc (by simp) _
  have HS1 : Hid (w1.heap.size = w.heap.size + 2) := by show _ = _; rw [← hw1]; simp
  have HS : Hid (Seg w1 a len zs) := hs.below HB1.out
  clear hs
  go_enter Try.func26, Try.ntmps26
  go_wp2_with fail
  refine (l1New_any a len cap zs _ HS.out hl).mono ?_
  rintro e w2 ⟨rfl, hc2, hb2⟩
  have HQ2 : Hid (Box2 w2 w.heap.size 34 (.int .i64 0) (.slice none 0 0)) := HQ1.out.stays hb2
  have HP2 : Hid (Box2 w2 (w.heap.size + 1) 36 (.string ⟨#[]⟩) (.string ⟨#[]⟩)) := HP1.out.stays hb2
  have HB2 : Hid (Below w.heap.size w w2) := HB1.out.trans (hb2.mono HB1.out.size)
  have HC2 : Hid (Cur w2 w1.heap.size w1.heap.size a len cap zs) := hc2
  have hcl := hc2.lt
  clear hc2 hb2 HQ1 HP1 HB1 HS hw1
  generalize w1.heap.size = c at *
  have hwc : w.heap.size + 1 < c := by have := HS1.out; omega
  clear HS1
  go_wp2_with fail
  refine (l4Any_any c c a len cap zs _ HC2.out hl).mono ?_
  rintro e w3 ⟨m, v, n, xs, rfl, ⟨hn, hfb⟩, ho3, hc3, hg3⟩
  obtain ⟨av, cv, rfl⟩ := ho3.shape
  have HO3 : Hid (OwnF w3 w2.heap.size (.slice av n cv) n xs) := ho3
  have HC3 : Hid (Cur w3 c c a len cap zs) := hc3
  have HQ3 : Hid (Box2 w3 w.heap.size 34 (.int .i64 0) (.slice none 0 0)) := HQ2.out.grown hg3 (by intro e; injection e with e; omega)
  have HP3 : Hid (Box2 w3 (w.heap.size + 1) 36 (.string ⟨#[]⟩) (.string ⟨#[]⟩)) := HP2.out.grown hg3 (by intro e; injection e with e; omega)
  have HB3 : Hid (Below w.heap.size w w3) := HB2.out.grown hg3 HB2.out.size (fun k e => by injection e with e; omega)
  have hcl3 := hc3.lt
  obtain ⟨w4, hw4⟩ : ∃ w4, w3.alloc (.cells #[.int .i64 m, .slice av n cv] 34) = w4 := ⟨_, rfl⟩
  have HT4 : Hid (Box2 w4 w3.heap.size 34 (.int .i64 m) (.slice av n cv)) := by show Box2 _ _ _ _ _; rw [← hw4]; exact Box2.new _ _ _ _
  have HC4 : Hid (Cur w4 c c a len cap zs) := by rw [← hw4]; exact HC3.out.new _
  have HQ4 : Hid (Box2 w4 w.heap.size 34 (.int .i64 0) (.slice none 0 0)) := by show Box2 _ _ _ _ _; rw [← hw4]; exact HQ3.out.alloc _
  have HP4 : Hid (Box2 w4 (w.heap.size + 1) 36 (.string ⟨#[]⟩) (.string ⟨#[]⟩)) := by show Box2 _ _ _ _ _; rw [← hw4]; exact HP3.out.alloc _
  have HO4 : Hid (OwnF w4 w2.heap.size (.slice av n cv) n xs) := by rw [← hw4]; exact HO3.out.stays ((Below.refl _ _).alloc (Nat.le_refl _) _)
  have HB4 : Hid (Below w.heap.size w w4) := by show Below _ _ _; rw [← hw4]; exact HB3.out.alloc HB3.out.size _
  clear ho3 hc3 hg3 HQ2 HP2 HB2 HC2 HQ3 HP3 HC3 HO3 HB3
  rcases Nat.eq_zero_or_pos n with rfl | hp
  · obtain ⟨b0, b1, b2, b3⟩ := HT4.out.cells
    go_wp2_with fail
    clear hw4
    generalize w3.heap.size = tb at *
    have HCd : Hid (Cur w4.drew c c a len cap zs) := HC4.out
    go_region_with (go_at_call 52; refine (l4Field_any c c a len cap zs _ HCd.out hl).mono ?_; rintro e y1 ⟨x, y, rfl, hx, hy, hc1, hg1⟩; have hT1 : Box2 y1 tb 34 (.int .i64 m) (.slice av 0 cv) := Box2.grown (W := w4.drew) HT4.out hg1 (by intro e; injection e with e; omega); obtain ⟨d0, d1, d2, d3⟩ := hT1.cells; have hQ1 : Box2 y1 w.heap.size 34 (.int .i64 0) (.slice none 0 0) := Box2.grown (W := w4.drew) HQ4.out hg1 (by intro e; injection e with e; omega); obtain ⟨e0, e1, e2, e3⟩ := hQ1.cells; have hP1 : Box2 y1 (w.heap.size + 1) 36 (.string ⟨#[]⟩) (.string ⟨#[]⟩) := Box2.grown (W := w4.drew) HP4.out hg1 (by intro e; injection e with e; omega); obtain ⟨f0, f1, f2, f3⟩ := hP1.cells)
    all_goals
      have hg1' : w4.grownBy y1 (some c) := gtrans (gdrew w4 1 (some c)) hg1
      obtain ⟨z, hz⟩ : ∃ z, (((y1.setCell ⟨w.heap.size, 0, none⟩ (.int .i64 m)).setCell ⟨w.heap.size, 1, none⟩ (.slice av 0 cv)).setCell ⟨w.heap.size + 1, 0, none⟩ (.string x)).setCell ⟨w.heap.size + 1, 1, none⟩ (.string y) = z := ⟨_, rfl⟩
      have HZ : Hid (Box2 z w.heap.size 34 (.int .i64 m) (.slice av 0 cv) ∧ Box2 z (w.heap.size + 1) 36 (.string x) (.string y) ∧ OwnF z w.heap.size (.slice av 0 cv) 0 xs ∧ Below w.heap.size w z) := found_end m x y (HB4.out.grown hg1' HB4.out.size (fun k e => by injection e with e; omega)) hQ1 hP1 (HO4.out.grown hg1' (.inr (own_cur HO4.out.1 hcl))) (by omega) hz
      rw [hz]
      clear hz hg1' hg1 hc1 hQ1 hP1 hT1 d0 d1 d2 d3 e0 e1 e2 e3 f0 f1 f2 f3 b0 b1 b2 b3
      go_wp2_with fail
      obtain ⟨r0, r1, _, _⟩ := HZ.out.1.cells
      obtain ⟨p0, p1, _, _⟩ := HZ.out.2.1.cells
      refine bodyPost_ret (v := .tuple #[.agg #[.int .i64 m, .slice av 0 cv], .agg #[.string x, .string y]]) (by simp [results, Try.f26, go_sem, r0, r1, p0, p1]) rfl ?_
      exact ⟨m, av, 0, cv, xs, x, y, rfl, ⟨by omega, hfb, by omega, by omega⟩, HZ.out.2.2.1, HZ.out.2.2.2⟩
  · have hpi : (0 : Int) < (n : Int) := by omega
    obtain ⟨b0, b1, b2, b3⟩ := HT4.out.cells
    go_wp2_with fail
    clear hw4 b0 b1 b2 b3
    generalize w3.heap.size = tb at *
    refine (l1Once_any c c a len cap zs 2 _ HC4.out hl (by omega) (by omega)).mono ?_
    rintro e w5 ⟨b, rfl, hc5, hg5⟩
    have HC5 : Hid (Cur w5 c c a len cap zs) := hc5
    have HT5 : Hid (Box2 w5 tb 34 (.int .i64 m) (.slice av n cv)) := HT4.out.grown hg5 (by intro e; injection e with e; omega)
    have HQ5 : Hid (Box2 w5 w.heap.size 34 (.int .i64 0) (.slice none 0 0)) := HQ4.out.grown hg5 (by intro e; injection e with e; omega)
    have HP5 : Hid (Box2 w5 (w.heap.size + 1) 36 (.string ⟨#[]⟩) (.string ⟨#[]⟩)) := HP4.out.grown hg5 (by intro e; injection e with e; omega)
    have HO5 : Hid (OwnF w5 w2.heap.size (.slice av n cv) n xs) := HO4.out.grown hg5 (.inr (own_cur HO4.out.1 hcl))
    have HB5 : Hid (Below w.heap.size w w5) := HB4.out.grown hg5 HB4.out.size (fun k e => by injection e with e; omega)
    clear hc5 hg5 HC4 HT4 HQ4 HP4 HO4 HB4
    obtain ⟨b0, b1, b2, b3⟩ := HT5.out.cells
    cases b with
    | false =>
      go_wp2_with fail
      have HCd : Hid (Cur w5.drew c c a len cap zs) := HC5.out
      go_region_with (go_at_call 52; refine (l4Field_any c c a len cap zs _ HCd.out hl).mono ?_; rintro e y1 ⟨x, y, rfl, hx, hy, hc1, hg1⟩; have hT1 : Box2 y1 tb 34 (.int .i64 m) (.slice av n cv) := Box2.grown (W := w5.drew) HT5.out hg1 (by intro e; injection e with e; omega); obtain ⟨d0, d1, d2, d3⟩ := hT1.cells; have hQ1 : Box2 y1 w.heap.size 34 (.int .i64 0) (.slice none 0 0) := Box2.grown (W := w5.drew) HQ5.out hg1 (by intro e; injection e with e; omega); obtain ⟨e0, e1, e2, e3⟩ := hQ1.cells; have hP1 : Box2 y1 (w.heap.size + 1) 36 (.string ⟨#[]⟩) (.string ⟨#[]⟩) := Box2.grown (W := w5.drew) HP5.out hg1 (by intro e; injection e with e; omega); obtain ⟨f0, f1, f2, f3⟩ := hP1.cells)
      all_goals
        have hg1' : w5.grownBy y1 (some c) := gtrans (gdrew w5 1 (some c)) hg1
        obtain ⟨z, hz⟩ : ∃ z, (((y1.setCell ⟨w.heap.size, 0, none⟩ (.int .i64 m)).setCell ⟨w.heap.size, 1, none⟩ (.slice av n cv)).setCell ⟨w.heap.size + 1, 0, none⟩ (.string x)).setCell ⟨w.heap.size + 1, 1, none⟩ (.string y) = z := ⟨_, rfl⟩
        have HZ : Hid (Box2 z w.heap.size 34 (.int .i64 m) (.slice av n cv) ∧ Box2 z (w.heap.size + 1) 36 (.string x) (.string y) ∧ OwnF z w.heap.size (.slice av n cv) n xs ∧ Below w.heap.size w z) := found_end m x y (HB5.out.grown hg1' HB5.out.size (fun k e => by injection e with e; omega)) hQ1 hP1 (HO5.out.grown hg1' (.inr (own_cur HO5.out.1 hcl))) (by omega) hz
        rw [hz]
        clear hz hg1' hg1 hc1 hQ1 hP1 hT1 d0 d1 d2 d3 e0 e1 e2 e3 f0 f1 f2 f3 b0 b1 b2 b3
        go_wp2_with fail
        obtain ⟨r0, r1, _, _⟩ := HZ.out.1.cells
        obtain ⟨p0, p1, _, _⟩ := HZ.out.2.1.cells
        refine bodyPost_ret (v := .tuple #[.agg #[.int .i64 m, .slice av n cv], .agg #[.string x, .string y]]) (by simp [results, Try.f26, go_sem, r0, r1, p0, p1]) rfl ?_
        exact ⟨m, av, n, cv, xs, x, y, rfl, ⟨by omega, hfb, by omega, by omega⟩, HZ.out.2.2.1, HZ.out.2.2.2⟩
    | true =>
      have HCd : Hid (Cur w5.drew c c a len cap zs) := HC5.out
      obtain ⟨g, off, x0, y0, rfl, hglt, _, _, _⟩ := HO5.out.flds.at hp
      have hgb : w2.heap.size ≤ g := (HO5.out.lt g rfl).1
      go_wp2_with fail
      go_region_with (go_at_call 43; refine (l1Below_any c c a len cap zs _ _ HCd.out hl (by omega) (by omega)).mono ?_; rintro e y1 ⟨k', rfl, hk0, hk1, hc1, hg1⟩; obtain ⟨k, rfl⟩ := Int.eq_ofNat_of_zero_le hk0; have hkn : k < n := Int.ofNat_lt.1 hk1; have hO1 : OwnF y1 w2.heap.size (.slice (some ⟨g, off, none⟩) n cv) n xs := OwnF.grown (W := w5.drew) HO5.out hg1 (.inr (own_cur HO5.out.1 hcl)); obtain ⟨g', off', x, y, hgo, _, hxy, hx1, hy1⟩ := hO1.flds.at hkn; have hgg : g' = g ∧ off' = off := ⟨by injection hgo with h; injection h with h1 h2; exact h1.symm, by injection hgo with h; injection h with h1 h2; exact h2.symm⟩; rw [hgg.1, hgg.2] at hx1 hy1; clear hgg hgo; have hT1 : Box2 y1 tb 34 (.int .i64 m) (.slice (some ⟨g, off, none⟩) n cv) := Box2.grown (W := w5.drew) HT5.out hg1 (by intro e; injection e with e; omega); obtain ⟨d0, d1, d2, d3⟩ := hT1.cells; have hQ1 : Box2 y1 w.heap.size 34 (.int .i64 0) (.slice none 0 0) := Box2.grown (W := w5.drew) HQ5.out hg1 (by intro e; injection e with e; omega); obtain ⟨e0, e1, e2, e3⟩ := hQ1.cells; have hP1 : Box2 y1 (w.heap.size + 1) 36 (.string ⟨#[]⟩) (.string ⟨#[]⟩) := Box2.grown (W := w5.drew) HP5.out hg1 (by intro e; injection e with e; omega); obtain ⟨f0, f1, f2, f3⟩ := hP1.cells)
      all_goals
        have hsz : x.size + y.size ≤ 560 := by
          have h1 := fldBytes_step xs k x y hxy
          have h2 := fldBytes_take xs (k + 1)
          omega
        clear hx1 hy1 hO1 hxy
        have hg1' : w5.grownBy y1 (some c) := gtrans (gdrew w5 1 (some c)) hg1
        obtain ⟨z, hz⟩ : ∃ z, (((y1.setCell ⟨w.heap.size, 0, none⟩ (.int .i64 m)).setCell ⟨w.heap.size, 1, none⟩ (.slice (some ⟨g, off, none⟩) n cv)).setCell ⟨w.heap.size + 1, 0, none⟩ (.string x)).setCell ⟨w.heap.size + 1, 1, none⟩ (.string y) = z := ⟨_, rfl⟩
        have HZ : Hid (Box2 z w.heap.size 34 (.int .i64 m) (.slice (some ⟨g, off, none⟩) n cv) ∧ Box2 z (w.heap.size + 1) 36 (.string x) (.string y) ∧ OwnF z w.heap.size (.slice (some ⟨g, off, none⟩) n cv) n xs ∧ Below w.heap.size w z) := found_end m x y (HB5.out.grown hg1' HB5.out.size (fun k e => by injection e with e; omega)) hQ1 hP1 (HO5.out.grown hg1' (.inr (own_cur HO5.out.1 hcl))) (by omega) hz
        rw [hz]
        clear hz hg1' hg1 hc1 hQ1 hP1 hT1 d0 d1 d2 d3 e0 e1 e2 e3 f0 f1 f2 f3 b0 b1 b2 b3
        go_wp2_with fail
        obtain ⟨r0, r1, _, _⟩ := HZ.out.1.cells
        obtain ⟨p0, p1, _, _⟩ := HZ.out.2.1.cells
        refine bodyPost_ret (v := .tuple #[.agg #[.int .i64 m, .slice (some ⟨g, off, none⟩) n cv], .agg #[.string x, .string y]]) (by simp [results, Try.f26, go_sem, r0, r1, p0, p1]) rfl ?_
        exact ⟨m, _, n, cv, xs, x, y, rfl, ⟨by omega, hfb, by omega, by omega⟩, HZ.out.2.2.1, HZ.out.2.2.2⟩

end Go.Proofs.Ytljhplddgcmmoab
