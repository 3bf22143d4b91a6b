/- The law that FindField answers as the specification's, but for the program's own contract. -/
import Derived.Test.YtnenphedodfnnakTabFind
import Derived.Test.YtnenphedodfnnakTabTo
import Derived.Test.YtnenphedodfnnakTabEq
import Derived.Test.YtnenphedodfnnakWalkAt
import Derived.Deep.RegionWith
import Derived.Deep.Cut
namespace Go.Proofs.Ytnenphedodfnnak
open Go.RowKit
set_option linter.unusedVariables false

set_option maxRecDepth 10000 in
set_option maxHeartbeats 6400000 in
theorem findWalk (HI : ∀ (m : Int) (a : Option Addr) (len ca : Nat) (xs : List Fld) (x y : ByteArray) (w : World), Flds w a len xs → len ≤ 1048576 → x.size ≤ maxLen ∧ y.size ≤ maxLen → Calls Try.prog 28 #[.agg #[.int .i64 m, .slice a len ca], .agg #[.string x, .string y]] w fun e w' => ∃ i b, e = .returned (.tuple #[.int .i64 i, .bool b]) ∧ FindAns (firstL ++ xs) (x, y) i b ∧ Below w.heap.size w w')
    (m : Int) (a0 : Option Addr) (len0 cap0 : Nat) (z0 : List Fld) (x y : ByteArray) (w : World) (hl0 : len0 ≤ maxLen) (w0 : Flds w a0 len0 z0) (hxy : x.size ≤ maxLen ∧ y.size ≤ maxLen) :
    Calls Try.prog 8 #[.agg #[.int .i64 m, .slice a0 len0 cap0], .agg #[.string x, .string y]] w fun e w' => e = .returned (.bool true) ∧ Below w.heap.size w w' := by
  have HX : Hid (Flds w a0 len0 z0) := w0
  have HI' : Hid (∀ (m : Int) (a : Option Addr) (len ca : Nat) (xs : List Fld) (x y : ByteArray) (w : World), Flds w a len xs → len ≤ 1048576 → x.size ≤ maxLen ∧ y.size ≤ maxLen → Calls Try.prog 28 #[.agg #[.int .i64 m, .slice a len ca], .agg #[.string x, .string y]] w fun e w' => ∃ i b, e = .returned (.tuple #[.int .i64 i, .bool b]) ∧ FindAns (firstL ++ xs) (x, y) i b ∧ Below w.heap.size w w') := HI
  clear w0 HI
  obtain ⟨hx1, hy1⟩ := hxy
  obtain ⟨x0, hx0⟩ : ∃ x0, (w.alloc (.cells #[.int .i64 m, .slice a0 len0 cap0] 24)).alloc (.cells #[.string x, .string y] 35) = x0 := ⟨_, rfl⟩
  have HB0 : Hid (Below w.heap.size w x0) := by show Below _ _ _; rw [← hx0]; exact ((Below.refl _ _).alloc (Nat.le_refl _) _).alloc (by simp) _
  have HT0 : Hid (Box2 x0 w.heap.size 24 (.int .i64 m) (.slice a0 len0 cap0)) := by show Box2 _ _ _ _ _; rw [← hx0]; exact (Box2.new _ _ _ _).alloc _
  have HF0 : Hid (Box2 x0 (w.heap.size + 1) 35 (.string x) (.string y)) := by
    show Box2 _ _ _ _ _
    rw [← hx0]
    have := Box2.new (w.alloc (.cells #[.int .i64 m, .slice a0 len0 cap0] 24)) 35 (.string x) (.string y)
    rwa [World.size_alloc] at this
  obtain ⟨c0, c1, _, _⟩ := HT0.out.cells
  go_enter Try.func8, Try.ntmps8
  go_wp2_with fail
  clear hx0
  refine (szTable_any m a0 len0 cap0 z0 1048576 x0 (HX.out.below HB0.out) (by omega) (by omega) hl0).mono ?_
  rintro e x1 ⟨⟨v, rfl, hv1, hv2⟩, hb1⟩
  have HT1 : Hid (Box2 x1 w.heap.size 24 (.int .i64 m) (.slice a0 len0 cap0)) := HT0.out.stays hb1
  have HF1 : Hid (Box2 x1 (w.heap.size + 1) 35 (.string x) (.string y)) := HF0.out.stays hb1
  have HB1 : Hid (Below w.heap.size w x1) := HB0.out.trans (hb1.mono HB0.out.size)
  have HV : Hid (0 ≤ v → (len0 + fldBytes z0 : Int) ≤ 1048576) := fun h => by have := hv2 h; omega
  clear hb1 hv2 HB0 HT0 HF0 c0 c1
  by_cases hneg : v < 0
  · go_wp2_with fail
    go_ret
    exact ⟨rfl, HB1.out⟩
  have hsz : len0 + fldBytes z0 ≤ 1048576 := by have := HV.out (by omega); omega
  have hle : len0 ≤ 1048576 := by omega
  obtain ⟨c0, c1, _, _⟩ := HF1.out.cells
  go_wp2_with fail
  refine (szField_any x y v x1 hx1 hy1 (by omega) (by omega)).mono ?_
  rintro e x2 ⟨rfl, hb2⟩
  have HT2 : Hid (Box2 x2 w.heap.size 24 (.int .i64 m) (.slice a0 len0 cap0)) := HT1.out.stays hb2
  have HF2 : Hid (Box2 x2 (w.heap.size + 1) 35 (.string x) (.string y)) := HF1.out.stays hb2
  have HB2 : Hid (Below w.heap.size w x2) := HB1.out.trans (hb2.mono HB1.out.size)
  clear hb2 HT1 HF1 HB1 c0 c1 HV
  generalize (if v - x.size - y.size < 0 then -1 else v - x.size - y.size : Int) = v2
  by_cases hneg2 : v2 < 0
  · go_wp2_with fail
    go_ret
    exact ⟨rfl, HB2.out⟩
  have hn2 : decide (v2 < 0) = false := by simp; omega
  have HT : Hid (∀ (X W : World), Below w.heap.size w X → Box2 X w.heap.size 24 (.int .i64 m) (.slice a0 len0 cap0) → Box2 X (w.heap.size + 1) 35 (.string x) (.string y) → Below X.heap.size X W → Flds W a0 len0 z0 ∧ Below w.heap.size w W ∧ Box2 W w.heap.size 24 (.int .i64 m) (.slice a0 len0 cap0) ∧ Box2 W (w.heap.size + 1) 35 (.string x) (.string y)) := fun X W h1 h2 h3 hW =>
    have hb := h1.trans (hW.mono h1.size)
    ⟨HX.out.below hb, hb, h2.stays hW, h3.stays hW⟩
  obtain ⟨c0, c1, _, _⟩ := HT2.out.cells
  obtain ⟨c2, c3, _, _⟩ := HF2.out.cells
  go_upto_region 8 with fail
  go_cut [6, 7] from 11 (fun v6 v7 W => ∃ (i : Int) (b : Bool), v6 = .int .i64 i ∧ v7 = .bool b ∧ Hid (FindAns (firstL ++ z0) (x, y) i b) ∧ Hid (Box2 W w.heap.size 24 (.int .i64 m) (.slice a0 len0 cap0)) ∧ Hid (Box2 W (w.heap.size + 1) 35 (.string x) (.string y)) ∧ Hid (Below w.heap.size w W))
  case first =>
    go_region_with (first
      | (go_at_call 11; refine (toTable_any m a0 len0 cap0 z0 _ (HT.out x2 _ HB2.out HT2.out HF2.out (Below.refl _ _).drew).1 hle).mono ?_; rintro e y1 ⟨g1, rfl, hg1, hf1, hb1⟩; have hb1' : Below x2.heap.size x2 y1 := (Below.refl x2.heap.size x2).drew.trans (hb1.mono (Nat.le_refl _)); obtain ⟨k0, k1, _, _⟩ := (HT.out x2 y1 HB2.out HT2.out HF2.out hb1').2.2.2.cells)
      | (go_at_call 18; refine (toField_any x y _).mono ?_; rintro e y2 ⟨rfl, hb2⟩)
      | (go_at_call 27; refine (specFind_any m _ len0 len0 z0 x y _ (hf1.below hb2) (by omega)).mono ?_; rintro e y3 ⟨i, b, rfl, hfa, hb3⟩))
    all_goals
      have hb13 : Below x2.heap.size x2 y3 := hb1'.trans ((hb2.trans (hb3.mono hb2.size)).mono hb1'.size)
      obtain ⟨_, p2, p3, p4⟩ := HT.out x2 y3 HB2.out HT2.out HF2.out hb13
      have HFA : Hid (FindAns (firstL ++ z0) (x, y) i b) := hfa
      have HP : Hid (Below w.heap.size w y3 ∧ Box2 y3 w.heap.size 24 (.int .i64 m) (.slice a0 len0 cap0) ∧ Box2 y3 (w.heap.size + 1) 35 (.string x) (.string y)) := ⟨p2, p3, p4⟩
      clear hb13 p2 p3 p4 hfa hb1 hb1' hb2 hb3 hf1 hg1 k0 k1
      go_wp2_with fail
      go_meet
      exact ⟨i, b, rfl, rfl, HFA, HP.out.2.1, HP.out.2.2, HP.out.1⟩
  case rest =>
  clear c0 c1 c2 c3 HT2 HF2 HB2
  obtain ⟨i, b, rfl, rfl, HFA, HT3, HF3, HB3⟩ := hcut
  obtain ⟨c0, c1, _, _⟩ := HT3.out.cells
  go_wp2_with fail
  refine (toTable_any m a0 len0 cap0 z0 wc (HX.out.below HB3.out) hle).mono ?_
  rintro e x4 ⟨g4, rfl, hg4, hf4, hb4⟩
  have HT4 : Hid (Box2 x4 w.heap.size 24 (.int .i64 m) (.slice a0 len0 cap0)) := HT3.out.stays hb4
  have HG4 : Hid (Box2 x4 (w.heap.size + 1) 35 (.string x) (.string y)) := HF3.out.stays hb4
  have HB4 : Hid (Below w.heap.size w x4) := HB3.out.trans (hb4.mono HB3.out.size)
  have HF4 : Hid (Flds x4 (some ⟨g4, 0, none⟩) len0 z0) := hf4
  clear hb4 hf4 hg4 HT3 HF3 HB3 c0 c1
  obtain ⟨x6, hx6⟩ : ∃ x6, x4.alloc (.cells #[.int .i64 m, .slice (some ⟨g4, 0, none⟩) len0 len0] 29) = x6 := ⟨_, rfl⟩
  have hb46 : Below x4.heap.size x4 x6 := by rw [← hx6]; exact (Below.refl _ _).alloc (Nat.le_refl _) _
  have HT6 : Hid (Box2 x6 w.heap.size 24 (.int .i64 m) (.slice a0 len0 cap0)) := HT4.out.stays hb46
  have HG6 : Hid (Box2 x6 (w.heap.size + 1) 35 (.string x) (.string y)) := HG4.out.stays hb46
  have HX6 : Hid (Box2 x6 x4.heap.size 29 (.int .i64 m) (.slice (some ⟨g4, 0, none⟩) len0 len0)) := by show Box2 _ _ _ _ _; rw [← hx6]; exact Box2.new _ _ _ _
  have HB6 : Hid (Below w.heap.size w x6) := HB4.out.trans (hb46.mono HB4.out.size)
  have HF6 : Hid (Flds x6 (some ⟨g4, 0, none⟩) len0 z0) := HF4.out.below hb46
  have HU : Hid (∀ W, Below x6.heap.size x6 W → Below w.heap.size w W ∧ Box2 W w.heap.size 24 (.int .i64 m) (.slice a0 len0 cap0) ∧ Box2 W (w.heap.size + 1) 35 (.string x) (.string y) ∧ Box2 W x4.heap.size 29 (.int .i64 m) (.slice (some ⟨g4, 0, none⟩) len0 len0) ∧ Flds W (some ⟨g4, 0, none⟩) len0 z0) := fun W hW =>
    ⟨HB6.out.trans (hW.mono HB6.out.size), HT6.out.stays hW, HG6.out.stays hW, HX6.out.stays hW, HF6.out.below hW⟩
  obtain ⟨c0, c1, _, _⟩ := HX6.out.cells
  obtain ⟨c2, c3, _, _⟩ := HG6.out.cells
  clear hb46 HT4 HG4 HB4 HF4 HT
  go_upto_region 10 with fail
  go_cut [9, 10] from 11 (fun v9 v10 W => v9 = .int .i64 i ∧ v10 = .bool b ∧ Hid (Below x6.heap.size x6 W))
  case first =>
    go_region_with (first
      | (go_at_call 18; refine (toField_any x y _).mono ?_; rintro e y2 ⟨rfl, hb2⟩; have hb2' : Below x6.heap.size x6 y2 := (Below.refl x6.heap.size x6).drew.trans (hb2.mono (Nat.le_refl _)); obtain ⟨k0, k1, _, _⟩ := (HU.out y2 hb2').2.2.2.1.cells)
      | (go_at_call 28; refine (HI'.out m _ len0 len0 z0 x y _ (HU.out y2 hb2').2.2.2.2 hle ⟨hx1, hy1⟩).mono ?_; rintro e y3 ⟨i2, b2, rfl, hfa, hb3⟩))
    all_goals
      obtain ⟨e1, e2⟩ := hfa.one HFA.out
      subst e1 e2
      have HB63 : Hid (Below x6.heap.size x6 y3) := hb2'.trans (hb3.mono hb2'.size)
      clear hb2 hb2' hb3 hfa k0 k1
      go_wp2_with fail
      go_meet
      exact ⟨rfl, rfl, HB63⟩
  case rest =>
  obtain ⟨rfl, rfl, HB7⟩ := hcut
  have HT : Hid (∀ W : World, Below wc.heap.size wc W → Flds W a0 len0 z0 ∧ Flds W (some ⟨g4, 0, none⟩) len0 z0 ∧ Below w.heap.size w W ∧ Box2 W x4.heap.size 29 (.int .i64 m) (.slice (some ⟨g4, 0, none⟩) len0 len0)) := fun W hW =>
    have hb := HU.out W (HB7.out.trans (hW.mono HB7.out.size))
    ⟨HX.out.below hb.1, hb.2.2.2.2, hb.1, hb.2.2.2.1⟩
  clear c0 c1 c2 c3
  obtain ⟨c0, c1, _, _⟩ := (HU.out wc HB7.out).2.1.cells
  obtain ⟨c2, c3, _, _⟩ := (HU.out wc HB7.out).2.2.2.1.cells
  have hii : (i != i) = false := by simp
  have hbb : (b != b) = false := by simp
  go_wp2_with fail
  go_region_with (first
    | (go_at_call 11; refine (toTable_any m a0 len0 cap0 z0 _ (HT.out _ (Below.refl _ _).drew).1 hle).mono ?_; rintro e y1 ⟨g6, rfl, hg6, hf6, hb6⟩; have hb6' : Below wc.heap.size wc y1 := (Below.refl wc.heap.size wc).drew.trans (hb6.mono (Nat.le_refl _)); obtain ⟨k0, k1, _, _⟩ := (HT.out _ hb6').2.2.2.cells)
    | (go_at_call 13; refine (eqTable_same m _ _ len0 len0 len0 z0 _ (HT.out _ hb6').2.1 hf6 (by omega)).mono ?_; rintro e y2 ⟨rfl, hb7⟩))
  all_goals
    have hb6w := (HT.out _ hb6').2.2.1
    have HB10 : Hid (Below w.heap.size w y2) := by
      show Below _ _ _
      first
        | exact hb6w.trans (hb7.mono hb6w.size)
        | exact hb6w.drew.trans (hb7.mono hb6w.size)
    clear hb7 hb6 hb6' hb6w hf6 hg6 k0 k1
    go_wp2
    go_ret
    exact ⟨rfl, HB10.out⟩

end Go.Proofs.Ytnenphedodfnnak
