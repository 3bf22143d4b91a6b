/- The draw of the law on fields that are put into a table. For codes of at most 2^40 bytes. -/
import Derived.Test.YtljhplddgcmmoabDrawFind
import Derived.Test.YtljhplddgcmmoabStepMake
namespace Go.Proofs.Ytljhplddgcmmoab
open Go.RowKit Go.Shelf
set_option linter.unusedVariables false

theorem info_byte : (Try.prog.info? 5).map (fun i => (i.zero, i.size, i.bytes)) = some (some (.int .u8 0), 1, 1) := by kernel_rfl

set_option maxRecDepth 10000 in
set_option maxHeartbeats 1600000 in
theorem drawAdd_any (a : Option Addr) (len cap : Nat) (zs : List Int) (w : World) (hs : Seg w a len zs) (hl : len ≤ 1099511627776) :
    Calls Try.prog 19 #[.slice a len cap] w fun e w' => ∃ (m : Int) (av : Option Addr) (n cv : Nat) (xs : List Fld) (x y : ByteArray), e = .returned (.tuple #[.agg #[.int .i64 m, .slice av n cv], .agg #[.string x, .string y]]) ∧ (n ≤ 7 ∧ fldBytes xs ≤ 560 ∧ x.size ≤ 1000 ∧ y.size ≤ 5000) ∧ OwnF w' w.heap.size (.slice av n cv) n xs ∧ Below w.heap.size w w' := by
  obtain ⟨w1, hw1⟩ : ∃ w1, (w.alloc (.cells #[.int .i64 0, .slice none 0 0] 34)).alloc (.cells #[.string ⟨#[]⟩, .string ⟨#[]⟩] 36) = w1 := ⟨_, rfl⟩
  have HQ1 : Hid (Box2 w1 w.heap.size 34 (.int .i64 0) (.slice none 0 0)) := by show Box2 _ _ _ _ _; rw [← hw1]; exact (Box2.new _ _ _ _).alloc _
  have HP1 : Hid (Box2 w1 (w.heap.size + 1) 36 (.string ⟨#[]⟩) (.string ⟨#[]⟩)) := by show Box2 _ _ _ _ _; rw [← hw1, ← World.size_alloc w (.cells #[.int .i64 0, .slice none 0 0] 34)]; exact (Box2.new _ _ _ _)
  have HB1 : Hid (Below w.heap.size w w1) := by show Below _ _ _; rw [← hw1]; exact ((Below.refl _ _).alloc (Nat.le_refl _) _).alloc (by simp) _
  have HS1 : Hid (w1.heap.size = w.heap.size + 2) := by show _ = _; rw [← hw1]; simp
  have HS : Hid (Seg w1 a len zs) := hs.below HB1.out
  clear hs
  go_enter Try.func19, Try.ntmps19
  go_wp2_with fail
  refine (l1New_any a len cap zs _ HS.out hl).mono ?_
  rintro e w2 ⟨rfl, hc2, hb2⟩
  have HQ2 : Hid (Box2 w2 w.heap.size 34 (.int .i64 0) (.slice none 0 0)) := HQ1.out.stays hb2
  have HP2 : Hid (Box2 w2 (w.heap.size + 1) 36 (.string ⟨#[]⟩) (.string ⟨#[]⟩)) := HP1.out.stays hb2
  have HB2 : Hid (Below w.heap.size w w2) := HB1.out.trans (hb2.mono HB1.out.size)
  have HC2 : Hid (Cur w2 w1.heap.size w1.heap.size a len cap zs) := hc2
  have hcl := hc2.lt
  clear hc2 hb2 HQ1 HP1 HB1 HS hw1
  generalize w1.heap.size = c at *
  have hwc : w.heap.size + 1 < c := by have := HS1.out; omega
  clear HS1
  go_wp2_with fail
  refine (l4Field_any c c a len cap zs _ HC2.out hl).mono ?_
  rintro e w3 ⟨x, y, rfl, hx, hy, hc3, hg3⟩
  have HC3 : Hid (Cur w3 c c a len cap zs) := hc3
  have HQ3 : Hid (Box2 w3 w.heap.size 34 (.int .i64 0) (.slice none 0 0)) := HQ2.out.grown hg3 (by intro e; injection e with e; omega)
  have HP3 : Hid (Box2 w3 (w.heap.size + 1) 36 (.string ⟨#[]⟩) (.string ⟨#[]⟩)) := HP2.out.grown hg3 (by intro e; injection e with e; omega)
  have HB3 : Hid (Below w.heap.size w w3) := HB2.out.grown hg3 HB2.out.size (fun k e => by injection e with e; omega)
  have hcl3 := hc3.lt
  obtain ⟨w4, hw4⟩ : ∃ w4, w3.alloc (.cells #[.string x, .string y] 36) = w4 := ⟨_, rfl⟩
  have HF4 : Hid (Box2 w4 w3.heap.size 36 (.string x) (.string y)) := by show Box2 _ _ _ _ _; rw [← hw4]; exact Box2.new _ _ _ _
  have HC4 : Hid (Cur w4 c c a len cap zs) := by rw [← hw4]; exact HC3.out.new _
  have HQ4 : Hid (Box2 w4 w.heap.size 34 (.int .i64 0) (.slice none 0 0)) := by show Box2 _ _ _ _ _; rw [← hw4]; exact HQ3.out.alloc _
  have HP4 : Hid (Box2 w4 (w.heap.size + 1) 36 (.string ⟨#[]⟩) (.string ⟨#[]⟩)) := by show Box2 _ _ _ _ _; rw [← hw4]; exact HP3.out.alloc _
  have HB4 : Hid (Below w.heap.size w w4) := by show Below _ _ _; rw [← hw4]; exact HB3.out.alloc HB3.out.size _
  clear hc3 hg3 HQ2 HP2 HB2 HC2 HQ3 HP3 HC3 HB3
  go_wp2_with fail
  clear hw4
  generalize w3.heap.size = fb at *
  refine (l1Once_any c c a len cap zs 12 _ HC4.out hl (by omega) (by omega)).mono ?_
  rintro e w5 ⟨b, rfl, hc5, hg5⟩
  have HC5 : Hid (Cur w5 c c a len cap zs) := hc5
  have HF5 : Hid (Box2 w5 fb 36 (.string x) (.string y)) := HF4.out.grown hg5 (by intro e; injection e with e; omega)
  have HQ5 : Hid (Box2 w5 w.heap.size 34 (.int .i64 0) (.slice none 0 0)) := HQ4.out.grown hg5 (by intro e; injection e with e; omega)
  have HP5 : Hid (Box2 w5 (w.heap.size + 1) 36 (.string ⟨#[]⟩) (.string ⟨#[]⟩)) := HP4.out.grown hg5 (by intro e; injection e with e; omega)
  have HB5 : Hid (Below w.heap.size w w5) := HB4.out.grown hg5 HB4.out.size (fun k e => by injection e with e; omega)
  clear hc5 hg5 HC4 HF4 HQ4 HP4 HB4
  obtain ⟨b0, b1, b2, b3⟩ := HF5.out.cells
  cases b with
  | false =>
    go_wp2_with fail
    have HCd : Hid (Cur w5.drew c c a len cap zs) := HC5.out
    have HBs : Hid (w.heap.size + 1 < w5.drew.heap.size) := by show _ < w5.heap.size; have := HC5.out.lt; omega
    go_region_with (go_at_call 54; refine (l4Any_any c c a len cap zs _ HCd.out hl).mono ?_; rintro e y1 ⟨m, v, n, xs, rfl, ⟨hn, hfb⟩, ho1, hc1, hg1⟩; obtain ⟨av, cv, rfl⟩ := ho1.shape; have hF1 : Box2 y1 fb 36 (.string x) (.string y) := Box2.grown (W := w5.drew) HF5.out hg1 (by intro e; injection e with e; omega); obtain ⟨d0, d1, d2, d3⟩ := hF1.cells; have hQ1 : Box2 y1 w.heap.size 34 (.int .i64 0) (.slice none 0 0) := Box2.grown (W := w5.drew) HQ5.out hg1 (by intro e; injection e with e; omega); obtain ⟨e0, e1, e2, e3⟩ := hQ1.cells; have hP1 : Box2 y1 (w.heap.size + 1) 36 (.string ⟨#[]⟩) (.string ⟨#[]⟩) := Box2.grown (W := w5.drew) HP5.out hg1 (by intro e; injection e with e; omega); obtain ⟨f0, f1, f2, f3⟩ := hP1.cells)
    all_goals
      have hg1' : w5.grownBy y1 (some c) := gtrans (gdrew w5 1 (some c)) hg1
      obtain ⟨z, hz⟩ : ∃ z, (((y1.setCell ⟨w.heap.size, 0, none⟩ (.int .i64 m)).setCell ⟨w.heap.size, 1, none⟩ (.slice av n cv)).setCell ⟨w.heap.size + 1, 0, none⟩ (.string x)).setCell ⟨w.heap.size + 1, 1, none⟩ (.string y) = z := ⟨_, rfl⟩
      have HZ : Hid (Box2 z w.heap.size 34 (.int .i64 m) (.slice av n cv) ∧ Box2 z (w.heap.size + 1) 36 (.string x) (.string y) ∧ OwnF z w.heap.size (.slice av n cv) n xs ∧ Below w.heap.size w z) := found_end m x y (HB5.out.grown hg1' HB5.out.size (fun k e => by injection e with e; omega)) hQ1 hP1 ho1 HBs.out hz
      rw [hz]
      clear hz hg1' hg1 hc1 hQ1 hP1 hF1 d0 d1 d2 d3 e0 e1 e2 e3 f0 f1 f2 f3 b0 b1 b2 b3 ho1
      go_wp2_with fail
      obtain ⟨r0, r1, _, _⟩ := HZ.out.1.cells
      obtain ⟨p0, p1, _, _⟩ := HZ.out.2.1.cells
      refine bodyPost_ret (v := .tuple #[.agg #[.int .i64 m, .slice av n cv], .agg #[.string x, .string y]]) (by simp [results, Try.f19, go_sem, r0, r1, p0, p1]) rfl ?_
      exact ⟨m, av, n, cv, xs, x, y, rfl, ⟨by omega, hfb, by omega, by omega⟩, HZ.out.2.2.1, HZ.out.2.2.2⟩
  | true =>
    obtain ⟨i0, hi, hz0, hz1, hz2⟩ := info_parts info_byte
    have HEnt : Hid (∀ args w, (callFunc 43 args).run Try.prog w = .ok (.enter 43 args) w) := enters_of Try.func43 (by kernel_rfl) rfl
    have HCd : Hid (Cur w5.drew c c a len cap zs) := HC5.out
    have hxi : (x.size : Int) ≤ 40 := by omega
    have hxw : IntKind.i64.wrap (4064 - (x.size : Int)) = 4064 - (x.size : Int) := by
      obtain ⟨q, hq⟩ := Int.eq_ofNat_of_zero_le (show 0 ≤ 4064 - (x.size : Int) by omega)
      rw [hq]
      exact wrap_i64_small q (by omega)
    go_wp2_with fail
    go_region_with (go_at_call 43; refine (l1Below_any c c a len cap zs 2 _ HCd.out hl (by omega) (by omega)).mono ?_; rintro e y1 ⟨k, rfl, hk0, hk1, hc1, hg1⟩; obtain ⟨q, hq⟩ := Int.eq_ofNat_of_zero_le (show 0 ≤ 4064 - (x.size : Int) + k by omega); have hqs : q ≤ 4065 := (by omega); have hqw : IntKind.i64.wrap (q : Int) = (q : Int) := wrap_i64_small q (by omega); have hmk := run_make_zero (P := Try.prog) y1 22 5 i0 Try.underlying22 hi hz0 hz1 hz2 q (by omega); obtain ⟨y2, hy2⟩ : ∃ y2, y1.alloc (.cells (List.replicate q (.int .u8 0)).toArray 5) = y2 := ⟨_, rfl⟩; obtain ⟨s, hsz, hcv⟩ := run_text_zero (P := Try.prog) (y1.alloc (.cells (List.replicate q (.int .u8 0)).toArray 5)) 22 9 5 Try.underlying22 (by kernel_rfl) (by kernel_rfl) y1.heap.size q q (heap_alloc_new _ _); have hF1 : Box2 y1 fb 36 (.string x) (.string y) := Box2.grown (W := w5.drew) HF5.out hg1 (by intro e; injection e with e; omega); have hF2 : Box2 y2 fb 36 (.string x) (.string y) := (by rw [← hy2]; exact hF1.alloc _); rw [hy2] at hmk hcv; obtain ⟨d0, d1, d2, d3⟩ := hF1.cells; obtain ⟨g0, g1, g2, g3⟩ := hF2.cells)
    all_goals
      have hg1' : w5.grownBy y1 (some c) := gtrans (gdrew w5 1 (some c)) hg1
      obtain ⟨w6, hw6⟩ : ∃ w6, y2.setCell ⟨fb, 1, none⟩ (.string s) = w6 := ⟨_, rfl⟩
      have HF6 : Hid (Box2 w6 fb 36 (.string x) (.string s)) := by show Box2 _ _ _ _ _; rw [← hw6]; exact two_set1 hF2 _
      have HC6 : Hid (Cur w6 c c a len cap zs) := by rw [← hw6, ← hy2]; exact (hc1.new _).put (by omega) _
      have HQ6 : Hid (Box2 w6 w.heap.size 34 (.int .i64 0) (.slice none 0 0)) := by show Box2 _ _ _ _ _; rw [← hw6, ← hy2]; exact (set_block_other _ _ _ _ _ (by omega)).trans ((HQ5.out.grown hg1' (by intro e; injection e with e; omega)).alloc _)
      have HP6 : Hid (Box2 w6 (w.heap.size + 1) 36 (.string ⟨#[]⟩) (.string ⟨#[]⟩)) := by show Box2 _ _ _ _ _; rw [← hw6, ← hy2]; exact (set_block_other _ _ _ _ _ (by omega)).trans ((HP5.out.grown hg1' (by intro e; injection e with e; omega)).alloc _)
      have HB6 : Hid (Below w.heap.size w w6) := by
        have h := HB5.out.grown hg1' HB5.out.size (fun k e => by injection e with e; omega)
        show Below _ _ _
        rw [← hw6, ← hy2]
        exact (h.alloc h.size _).setCell (p := ⟨fb, 1, none⟩) (by show w.heap.size ≤ fb; omega) _
      rw [hw6]
      clear hw6 hy2 hg1' hg1 hc1 hF1 hF2 hmk hcv d0 d1 d2 d3 g0 g1 g2 g3 b0 b1 b2 b3 hq hqw HCd HF5 HC5 HQ5 HP5 HB5
      obtain ⟨b0, b1, b2, b3⟩ := HF6.out.cells
      go_wp2_with fail
      have HCd : Hid (Cur w6.drew c c a len cap zs) := HC6.out
      have HBs : Hid (w.heap.size + 1 < w6.drew.heap.size) := by show _ < w6.heap.size; have := HC6.out.lt; omega
      go_region_with (go_at_call 54; refine (l4Any_any c c a len cap zs _ HCd.out hl).mono ?_; rintro e y1 ⟨m, v, n, xs, rfl, ⟨hn, hfb⟩, ho1, hc1, hg1⟩; obtain ⟨av, cv, rfl⟩ := ho1.shape; have hF1 : Box2 y1 fb 36 (.string x) (.string s) := Box2.grown (W := w6.drew) HF6.out hg1 (by intro e; injection e with e; omega); obtain ⟨d0, d1, d2, d3⟩ := hF1.cells; have hQ1 : Box2 y1 w.heap.size 34 (.int .i64 0) (.slice none 0 0) := Box2.grown (W := w6.drew) HQ6.out hg1 (by intro e; injection e with e; omega); obtain ⟨e0, e1, e2, e3⟩ := hQ1.cells; have hP1 : Box2 y1 (w.heap.size + 1) 36 (.string ⟨#[]⟩) (.string ⟨#[]⟩) := Box2.grown (W := w6.drew) HP6.out hg1 (by intro e; injection e with e; omega); obtain ⟨f0, f1, f2, f3⟩ := hP1.cells)
      all_goals
        have hg1' : w6.grownBy y1 (some c) := gtrans (gdrew w6 1 (some c)) hg1
        obtain ⟨z, hz⟩ : ∃ z, (((y1.setCell ⟨w.heap.size, 0, none⟩ (.int .i64 m)).setCell ⟨w.heap.size, 1, none⟩ (.slice av n cv)).setCell ⟨w.heap.size + 1, 0, none⟩ (.string x)).setCell ⟨w.heap.size + 1, 1, none⟩ (.string s) = z := ⟨_, rfl⟩
        have HZ : Hid (Box2 z w.heap.size 34 (.int .i64 m) (.slice av n cv) ∧ Box2 z (w.heap.size + 1) 36 (.string x) (.string s) ∧ OwnF z w.heap.size (.slice av n cv) n xs ∧ Below w.heap.size w z) := found_end m x s (HB6.out.grown hg1' HB6.out.size (fun k e => by injection e with e; omega)) hQ1 hP1 ho1 HBs.out hz
        rw [hz]
        clear hz hg1' hg1 hc1 hQ1 hP1 hF1 d0 d1 d2 d3 e0 e1 e2 e3 f0 f1 f2 f3 b0 b1 b2 b3 ho1
        go_wp2_with fail
        obtain ⟨r0, r1, _, _⟩ := HZ.out.1.cells
        obtain ⟨p0, p1, _, _⟩ := HZ.out.2.1.cells
        refine bodyPost_ret (v := .tuple #[.agg #[.int .i64 m, .slice av n cv], .agg #[.string x, .string s]]) (by simp [results, Try.f19, go_sem, r0, r1, p0, p1]) rfl ?_
        exact ⟨m, av, n, cv, xs, x, s, rfl, ⟨by omega, hfb, by omega, by omega⟩, HZ.out.2.2.1, HZ.out.2.2.2⟩

end Go.Proofs.Ytljhplddgcmmoab
