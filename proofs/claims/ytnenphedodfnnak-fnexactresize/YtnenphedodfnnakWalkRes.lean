/- The law that Resize answers as the specification's, but for the program's own contract. -/
import Derived.Test.YtnenphedodfnnakTabRes
import Derived.Test.YtnenphedodfnnakTabTo
import Derived.Test.YtnenphedodfnnakTabEq
import Derived.Test.YtnenphedodfnnakTabHeld
import Derived.Test.YtnenphedodfnnakTabBox
import Derived.Deep.RegionWith
import Derived.Deep.Cut
namespace Go.Proofs.Ytnenphedodfnnak
open Go.RowKit
set_option linter.unusedVariables false

theorem CutAns.short {m n : Int} {xs : List Fld} {m' : Int} {ys : List Fld} (h : CutAns m n xs m' ys) : ys.length ≤ xs.length := by
  rcases h with ⟨_, _, k, _, rfl⟩ | ⟨_, _, rfl⟩
  · rw [List.length_take]
    omega
  · exact Nat.le_refl _

set_option maxRecDepth 10000 in
set_option maxHeartbeats 6400000 in
theorem resWalk (HI : ∀ (m n : Int) (a : Option Addr) (len ca : Nat) (xs : List Fld) (w : World), Flds w a len xs → len + fldBytes xs ≤ 1048576 → Calls Try.prog 23 #[.agg #[.int .i64 m, .slice a len ca], .int .i64 n] w fun e w' => ∃ v m' k ys, e = .returned (.agg #[.int .i64 m', v]) ∧ CutAns m n xs m' ys ∧ OwnF w' w.heap.size v k ys ∧ Below w.heap.size w w')
    (m i : Int) (a0 : Option Addr) (len0 cap0 : Nat) (z0 : List Fld) (w : World) (hl0 : len0 ≤ maxLen) (w0 : Flds w a0 len0 z0) :
    Calls Try.prog 6 #[.agg #[.int .i64 m, .slice a0 len0 cap0], .int .i64 i] w fun e w' => e = .returned (.bool true) ∧ Below w.heap.size w w' := by
  have HX : Hid (Flds w a0 len0 z0) := w0
  have hz0 : z0.length = len0 := w0.1
  have HI' : Hid (∀ (m n : Int) (a : Option Addr) (len ca : Nat) (xs : List Fld) (w : World), Flds w a len xs → len + fldBytes xs ≤ 1048576 → Calls Try.prog 23 #[.agg #[.int .i64 m, .slice a len ca], .int .i64 n] w fun e w' => ∃ v m' k ys, e = .returned (.agg #[.int .i64 m', v]) ∧ CutAns m n xs m' ys ∧ OwnF w' w.heap.size v k ys ∧ Below w.heap.size w w') := HI
  clear w0 HI
  obtain ⟨x0, hx0⟩ : ∃ x0, w.alloc (.cells #[.int .i64 m, .slice a0 len0 cap0] 24) = x0 := ⟨_, rfl⟩
  have HB0 : Hid (Below w.heap.size w x0) := by show Below _ _ _; rw [← hx0]; exact (Below.refl _ _).alloc (Nat.le_refl _) _
  have HT0 : Hid (Box2 x0 w.heap.size 24 (.int .i64 m) (.slice a0 len0 cap0)) := by show Box2 _ _ _ _ _; rw [← hx0]; exact Box2.new _ _ _ _
  obtain ⟨c0, c1, _, _⟩ := HT0.out.cells
  go_enter Try.func6, Try.ntmps6
  go_wp2_with fail
  clear hx0
  refine (szTable_any m a0 len0 cap0 z0 1048576 x0 (HX.out.below HB0.out) (by omega) (by omega) hl0).mono ?_
  rintro e x1 ⟨⟨v, rfl, hv1, hv2⟩, hb1⟩
  have HT1 : Hid (Box2 x1 w.heap.size 24 (.int .i64 m) (.slice a0 len0 cap0)) := HT0.out.stays hb1
  have HB1 : Hid (Below w.heap.size w x1) := HB0.out.trans (hb1.mono HB0.out.size)
  have HV : Hid (0 ≤ v → (len0 + fldBytes z0 : Int) ≤ 1048576) := fun h => by have := hv2 h; omega
  clear hb1 hv2 HB0 HT0 c0 c1
  by_cases hneg : v < 0
  · go_wp2_with fail
    go_ret
    exact ⟨rfl, HB1.out⟩
  have hsz : len0 + fldBytes z0 ≤ 1048576 := by have := HV.out (by omega); omega
  have hle : len0 ≤ 1048576 := by omega
  obtain ⟨c0, c1, _, _⟩ := HT1.out.cells
  go_wp2_with fail
  refine (toTable_any m a0 len0 cap0 z0 x1 (HX.out.below HB1.out) hle).mono ?_
  rintro e x2 ⟨g2, rfl, hg2, hf2, hb2⟩
  have HT2 : Hid (Box2 x2 w.heap.size 24 (.int .i64 m) (.slice a0 len0 cap0)) := HT1.out.stays hb2
  have HB2 : Hid (Below w.heap.size w x2) := HB1.out.trans (hb2.mono HB1.out.size)
  have HF2 : Hid (Flds x2 (some ⟨g2, 0, none⟩) len0 z0) := hf2
  clear hb2 hf2 HT1 HB1 hg2 c0 c1
  go_wp2_with fail
  refine (specRes_any m i (some ⟨g2, 0, none⟩) len0 len0 z0 x2 HF2.out (by omega)).mono ?_
  rintro e x3 ⟨vw, mw, kw, ys, rfl, hcut, how, hb3⟩
  obtain ⟨aw, cw, rfl⟩ := how.shape
  have HT3 : Hid (Box2 x3 w.heap.size 24 (.int .i64 m) (.slice a0 len0 cap0)) := HT2.out.stays hb3
  have HB3 : Hid (Below w.heap.size w x3) := HB2.out.trans (hb3.mono HB2.out.size)
  have HOw3 : Hid (OwnF x3 x2.heap.size (.slice aw kw cw) kw ys) := how
  have HCut : Hid (CutAns m i z0 mw ys) := hcut
  have hkw : kw ≤ 1048576 := by
    have h1 := hcut.short
    have h2 := how.len
    omega
  clear hb3 HT2 HB2 HF2 how hcut
  obtain ⟨x4, hx4⟩ : ∃ x4, x3.alloc (.cells #[.int .i64 mw, .slice aw kw cw] 29) = x4 := ⟨_, rfl⟩
  have hb34 : Below x3.heap.size x3 x4 := by rw [← hx4]; exact (Below.refl _ _).alloc (Nat.le_refl _) _
  have HT4 : Hid (Box2 x4 w.heap.size 24 (.int .i64 m) (.slice a0 len0 cap0)) := HT3.out.stays hb34
  have HW4 : Hid (Box2 x4 x3.heap.size 29 (.int .i64 mw) (.slice aw kw cw)) := by show Box2 _ _ _ _ _; rw [← hx4]; exact Box2.new _ _ _ _
  have HB4 : Hid (Below w.heap.size w x4) := HB3.out.trans (hb34.mono HB3.out.size)
  have HOw4 : Hid (OwnF x4 x2.heap.size (.slice aw kw cw) kw ys) := HOw3.out.stays hb34
  obtain ⟨c0, c1, _, _⟩ := HT4.out.cells
  have hlt3 : w.heap.size < x3.heap.size := HT3.out.lt
  have HLt : Hid (∀ k, (Value.slice aw kw cw).ownBlock = some k → k < x4.heap.size) := fun k hk => (HOw4.out.lt k hk).2
  have hlt34 : Hid (x3.heap.size < x4.heap.size) := HW4.out.lt
  clear hb34 HT3 HB3 HOw3
  go_wp2_with fail
  refine (toTable_own m a0 len0 cap0 z0 x4 (HX.out.below HB4.out) hle).mono ?_
  rintro e x5 ⟨g5, rfl, hg5, ho5, hf5, hb5⟩
  have HT5 : Hid (Box2 x5 w.heap.size 24 (.int .i64 m) (.slice a0 len0 cap0)) := HT4.out.stays hb5
  have HW5 : Hid (Box2 x5 x3.heap.size 29 (.int .i64 mw) (.slice aw kw cw)) := HW4.out.stays hb5
  have HB5 : Hid (Below w.heap.size w x5) := HB4.out.trans (hb5.mono HB4.out.size)
  have HOw5 : Hid (OwnF x5 x2.heap.size (.slice aw kw cw) kw ys) := HOw4.out.stays hb5
  have HOx5 : Hid (OwnF x5 x4.heap.size (.slice (some ⟨g5, 0, none⟩) len0 len0) len0 z0) := ⟨ho5, HX.out.2.1⟩
  clear hb5 hf5 ho5 HT4 HW4 HB4 HOw4 c0 c1 hx4
  have hg5lt : g5 < x5.heap.size := (HOx5.out.lt g5 rfl).2
  obtain ⟨x6, hx6⟩ : ∃ x6, x5.alloc (.cells #[.int .i64 m, .slice (some ⟨g5, 0, none⟩) len0 len0] 29) = x6 := ⟨_, rfl⟩
  have hb56 : Below x5.heap.size x5 x6 := by rw [← hx6]; exact (Below.refl _ _).alloc (Nat.le_refl _) _
  have HX6 : Hid (Box2 x6 x5.heap.size 29 (.int .i64 m) (.slice (some ⟨g5, 0, none⟩) len0 len0)) := by show Box2 _ _ _ _ _; rw [← hx6]; exact Box2.new _ _ _ _
  have HS6 : Hid (g5 < x6.heap.size) := Nat.lt_of_lt_of_le hg5lt hb56.size
  have HG5 : Hid (x4.heap.size ≤ g5) := hg5
  obtain ⟨c0, c1, _, _⟩ := HX6.out.cells
  go_wp2_with fail
  refine (HI'.out m i (some ⟨g5, 0, none⟩) len0 len0 z0 x6 (HOx5.out.stays hb56).flds hsz).mono ?_
  rintro e x7 ⟨vg, mg, kg, yg, rfl, hcut, hog, hb7⟩
  obtain ⟨rfl, rfl⟩ := hcut.one HCut.out
  obtain ⟨ag, cg, rfl⟩ := hog.shape
  obtain rfl : kg = kw := by rw [← hog.len, HOw5.out.len]
  obtain ⟨x8, hx8⟩ : ∃ x8, x7.alloc (.cells #[.int .i64 mg, .slice ag kg cg] 29) = x8 := ⟨_, rfl⟩
  have hb78 : Below x7.heap.size x7 x8 := by rw [← hx8]; exact (Below.refl _ _).alloc (Nat.le_refl _) _
  have hb58 : Below x5.heap.size x5 x8 := hb56.trans ((hb7.trans (hb78.mono hb7.size)).mono hb56.size)
  have hb68 : Below x6.heap.size x6 x8 := hb7.trans (hb78.mono hb7.size)
  have HT8 : Hid (Box2 x8 w.heap.size 24 (.int .i64 m) (.slice a0 len0 cap0)) := HT5.out.stays hb58
  have HW8 : Hid (Box2 x8 x3.heap.size 29 (.int .i64 mg) (.slice aw kg cw)) := HW5.out.stays hb58
  have HX8 : Hid (Box2 x8 x5.heap.size 29 (.int .i64 m) (.slice (some ⟨g5, 0, none⟩) len0 len0)) := HX6.out.stays hb68
  have HG8 : Hid (Box2 x8 x7.heap.size 29 (.int .i64 mg) (.slice ag kg cg)) := by show Box2 _ _ _ _ _; rw [← hx8]; exact Box2.new _ _ _ _
  have HB8 : Hid (Below w.heap.size w x8) := HB5.out.trans (hb58.mono HB5.out.size)
  have HOw8 : Hid (OwnF x8 x2.heap.size (.slice aw kg cw) kg yg) := HOw5.out.stays hb58
  have HOx8 : Hid (OwnF x8 x4.heap.size (.slice (some ⟨g5, 0, none⟩) len0 len0) len0 z0) := HOx5.out.stays hb58
  have HOg8 : Hid (OwnF x8 x6.heap.size (.slice ag kg cg) kg yg) := hog.stays hb78
  have HS67 : Hid (x6.heap.size ≤ x7.heap.size) := hb7.size
  have HS34 : Hid (w.heap.size < x3.heap.size ∧ x3.heap.size < x4.heap.size) := ⟨hlt3, by have := HW8.out; exact hlt34.out⟩
  clear hb78 hb58 hb68 hb56 hb7 hog hcut hg5 hg5lt hlt3 HT5 HW5 HB5 HOw5 HOx5 c0 c1 hx6 HX6
  obtain ⟨c0, c1, _, _⟩ := HW8.out.cells
  obtain ⟨c2, c3, _, _⟩ := HG8.out.cells
  go_wp2_with fail
  refine (eqTable_same mg _ _ kg _ _ yg x8 HOg8.out.flds HOw8.out.flds (by omega)).mono ?_
  rintro e x9 ⟨rfl, hb9⟩
  have HU : Hid (∀ W, Below x9.heap.size x9 W → Below w.heap.size w W ∧ Box2 W w.heap.size 24 (.int .i64 m) (.slice a0 len0 cap0) ∧ Box2 W x3.heap.size 29 (.int .i64 mg) (.slice aw kg cw) ∧ Box2 W x5.heap.size 29 (.int .i64 m) (.slice (some ⟨g5, 0, none⟩) len0 len0) ∧ Box2 W x7.heap.size 29 (.int .i64 mg) (.slice ag kg cg) ∧ OwnF W x2.heap.size (.slice aw kg cw) kg yg ∧ OwnF W x4.heap.size (.slice (some ⟨g5, 0, none⟩) len0 len0) len0 z0 ∧ OwnF W x6.heap.size (.slice ag kg cg) kg yg ∧ Flds W a0 len0 z0) := by
    intro W hW
    have hb : Below x8.heap.size x8 W := hb9.trans (hW.mono hb9.size)
    have hbw := HB8.out.trans (hb.mono HB8.out.size)
    exact ⟨hbw, HT8.out.stays hb, HW8.out.stays hb, HX8.out.stays hb, HG8.out.stays hb, HOw8.out.stays hb, HOx8.out.stays hb, HOg8.out.stays hb, HX.out.below hbw⟩
  clear HT8 HW8 HX8 HG8 HB8 HOw8 HOx8 HOg8 c0 c1 c2 c3 hb9 hx8
  obtain ⟨c0, c1, _, _⟩ := (HU.out x9 (Below.refl _ _)).2.1.cells
  obtain ⟨c2, c3, _, _⟩ := (HU.out x9 (Below.refl _ _)).2.2.2.1.cells
  go_upto_region 10 with fail
  go_cut [35] from 13 (fun v35 W => v35 = .bool false ∧ Hid (Below x9.heap.size x9 W))
  case first =>
    go_region_with (first
      | (go_at_call 11; refine (toTable_any m a0 len0 cap0 z0 _ (HU.out _ (Below.refl _ _).drew).2.2.2.2.2.2.2.2 hle).mono ?_; rintro e y1 ⟨g6, rfl, hg6, hf6, hb6⟩; have hb6' : Below x9.heap.size x9 y1 := (Below.refl x9.heap.size x9).drew.trans (hb6.mono (Nat.le_refl _)); obtain ⟨k0, k1, _, _⟩ := (HU.out _ hb6').2.2.2.1.cells)
      | (go_at_call 13; refine (eqTable_same m _ _ len0 len0 len0 z0 _ (HU.out _ hb6').2.2.2.2.2.2.1.flds hf6 (by omega)).mono ?_; rintro e y2 ⟨rfl, hb7⟩))
    all_goals
      have HB92 : Hid (Below x9.heap.size x9 y2) := by
        show Below _ _ _
        first
          | exact hb6'.trans (hb7.mono hb6'.size)
          | exact hb6'.drew.trans (hb7.mono hb6'.size)
      clear hb7 hb6 hb6' hf6 hg6 k0 k1
      go_wp2_with fail
      go_meet
      exact ⟨rfl, HB92⟩
  case rest =>
  obtain ⟨rfl, HBc⟩ := hcut
  clear c0 c1 c2 c3
  obtain ⟨u1, u2, u3, u4, u5, u6, u7, u8, u9⟩ := HU.out wc HBc.out
  obtain ⟨c2, c3, _, _⟩ := u4.cells
  have HC : Hid (Below w.heap.size w wc ∧ Box2 wc w.heap.size 24 (.int .i64 m) (.slice a0 len0 cap0) ∧ Box2 wc x3.heap.size 29 (.int .i64 mg) (.slice aw kg cw) ∧ Box2 wc x7.heap.size 29 (.int .i64 mg) (.slice ag kg cg) ∧ OwnF wc x2.heap.size (.slice aw kg cw) kg yg ∧ OwnF wc x6.heap.size (.slice ag kg cg) kg yg) := ⟨u1, u2, u3, u5, u6, u8⟩
  have HOx : Hid (OwnF wc x4.heap.size (.slice (some ⟨g5, 0, none⟩) len0 len0) len0 z0) := u7
  clear u1 u2 u3 u4 u5 u6 u7 u8 u9 HU HBc
  go_wp2_with fail
  refine (markT_any x4.heap.size m (some ⟨g5, 0, none⟩) len0 len0 z0 wc HOx.out (by omega)).mono ?_
  rintro e z1 ⟨rfl, _, hgr⟩
  have hgr' : wc.grownBy z1 (some g5) := hgr
  have s1 := HS6.out
  have s2 := HG5.out
  have s3 := HS67.out
  have s4 := HS34.out
  have HC1 : Hid (Below w.heap.size w z1 ∧ Box2 z1 w.heap.size 24 (.int .i64 m) (.slice a0 len0 cap0) ∧ Box2 z1 x3.heap.size 29 (.int .i64 mg) (.slice aw kg cw) ∧ Box2 z1 x7.heap.size 29 (.int .i64 mg) (.slice ag kg cg) ∧ OwnF z1 x2.heap.size (.slice aw kg cw) kg yg ∧ OwnF z1 x6.heap.size (.slice ag kg cg) kg yg) := by
    obtain ⟨u1, u2, u3, u5, u6, u8⟩ := HC.out
    refine ⟨u1.grown hgr' u1.size (fun k hk => by injection hk with hk; omega), u2.grown hgr' (by intro e; injection e with e; omega), u3.grown hgr' (by intro e; injection e with e; omega), u5.grown hgr' (by intro e; injection e with e; omega), u6.grown hgr' (.inr ?_), u8.grown hgr' (.inr ?_)⟩
    · intro e
      have := HLt.out g5 e
      omega
    · intro e
      have := (u8.lt g5 e).1
      omega
  clear hgr hgr' HC HOx c2 c3 s1 s2 s3 s4
  obtain ⟨c0, c1, _, _⟩ := HC1.out.2.2.1.cells
  obtain ⟨c2, c3, _, _⟩ := HC1.out.2.2.2.1.cells
  have hp1 : ¬ ((1 + 2 * len0 : Nat) : Int) < 0 := by omega
  have hp1d : decide (((1 + 2 * len0 : Nat) : Int) < 0) = false := by simp; omega
  generalize ((1 + 2 * len0 : Nat) : Int) = q1 at *
  go_wp2_with fail
  refine (eqTable_same mg _ _ kg _ _ yg z1 HC1.out.2.2.2.2.2.flds HC1.out.2.2.2.2.1.flds (by omega)).mono ?_
  rintro e z2 ⟨rfl, hb2⟩
  have HC2 : Hid (Below w.heap.size w z2 ∧ Box2 z2 w.heap.size 24 (.int .i64 m) (.slice a0 len0 cap0) ∧ Box2 z2 x3.heap.size 29 (.int .i64 mg) (.slice aw kg cw) ∧ Box2 z2 x7.heap.size 29 (.int .i64 mg) (.slice ag kg cg) ∧ OwnF z2 x2.heap.size (.slice aw kg cw) kg yg ∧ OwnF z2 x6.heap.size (.slice ag kg cg) kg yg) := by
    obtain ⟨u1, u2, u3, u5, u6, u8⟩ := HC1.out
    exact ⟨u1.trans (hb2.mono u1.size), u2.stays hb2, u3.stays hb2, u5.stays hb2, u6.stays hb2, u8.stays hb2⟩
  clear hb2 HC1 c0 c1 c2 c3
  obtain ⟨c2, c3, _, _⟩ := HC2.out.2.2.2.1.cells
  go_wp2_with fail
  refine (markT_any x6.heap.size mg ag kg cg yg z2 HC2.out.2.2.2.2.2 (by omega)).mono ?_
  rintro e z3 ⟨rfl, hmk, hgr⟩
  rw [← ownBlock_slice ag kg cg] at hgr
  have HC3 : Hid (Below w.heap.size w z3 ∧ Box2 z3 w.heap.size 24 (.int .i64 m) (.slice a0 len0 cap0) ∧ Box2 z3 x3.heap.size 29 (.int .i64 mg) (.slice aw kg cw) ∧ Box2 z3 x7.heap.size 29 (.int .i64 mg) (.slice ag kg cg) ∧ OwnF z3 x2.heap.size (.slice aw kg cw) kg yg ∧ OwnF z3 x6.heap.size (.slice ag kg cg) kg (marksF 1 kg)) := by
    obtain ⟨u1, u2, u3, u5, u6, u8⟩ := HC2.out
    have s1 := HS6.out
    have s2 := HG5.out
    have s4 := HS34.out
    refine ⟨u1.grown hgr u1.size (fun k hk => by have := (u8.lt k hk).1; omega), u2.grown hgr (own_other' u8.1 u2 (by decide)), u3.grown hgr (own_other' u8.1 u3 (by decide)), u5.grown hgr (own_other' u8.1 u5 (by decide)), u6.grown hgr ?_, hmk⟩
    cases hb : (Value.slice aw kg cw).ownBlock with
    | none => exact .inl rfl
    | some k =>
      right
      intro e
      have h1 := HLt.out k hb
      have h2 := (u8.lt k e.symm).1
      omega
  clear hmk hgr HC2 c2 c3
  obtain ⟨c2, c3, _, _⟩ := HC3.out.2.2.2.1.cells
  have hp2 : ¬ ((1 + 2 * kg : Nat) : Int) < 0 := by omega
  have hp2d : decide (((1 + 2 * kg : Nat) : Int) < 0) = false := by simp; omega
  have hp2e : (((1 + 2 * kg : Nat) : Int) != ((1 + 2 * kg : Nat) : Int)) = false := by simp
  have HHeld : Hid (∀ W, Flds W ag kg (marksF 1 kg) → Calls Try.prog 21 #[.agg #[.int .i64 mg, .slice ag kg cg], .int .i64 1] W fun e w' => e = .returned (.int .i64 ((1 + 2 * kg : Nat) : Int)) ∧ Below W.heap.size W w') := fun W hW => heldT_any mg ag kg cg W hW (by omega)
  generalize ((1 + 2 * kg : Nat) : Int) = q2 at *
  go_wp2_with fail
  refine (HHeld.out z3 HC3.out.2.2.2.2.2.flds).mono ?_
  rintro e z4 ⟨rfl, hb4⟩
  have HC4 : Hid (Below w.heap.size w z4 ∧ Box2 z4 w.heap.size 24 (.int .i64 m) (.slice a0 len0 cap0) ∧ Box2 z4 x3.heap.size 29 (.int .i64 mg) (.slice aw kg cw) ∧ Box2 z4 x7.heap.size 29 (.int .i64 mg) (.slice ag kg cg) ∧ OwnF z4 x2.heap.size (.slice aw kg cw) kg yg ∧ OwnF z4 x6.heap.size (.slice ag kg cg) kg (marksF 1 kg)) := by
    obtain ⟨u1, u2, u3, u5, u6, u8⟩ := HC3.out
    exact ⟨u1.trans (hb4.mono u1.size), u2.stays hb4, u3.stays hb4, u5.stays hb4, u6.stays hb4, u8.stays hb4⟩
  clear hb4 HC3 c2 c3
  obtain ⟨c0, c1, _, _⟩ := HC4.out.2.1.cells
  go_wp2_with fail
  refine (toTable_any m a0 len0 cap0 z0 z4 (HX.out.below HC4.out.1) hle).mono ?_
  rintro e z5 ⟨g7, rfl, hg7, hf7, hb5⟩
  have HC5 : Hid (Below w.heap.size w z5 ∧ Box2 z5 x3.heap.size 29 (.int .i64 mg) (.slice aw kg cw) ∧ Box2 z5 x7.heap.size 29 (.int .i64 mg) (.slice ag kg cg) ∧ OwnF z5 x2.heap.size (.slice aw kg cw) kg yg ∧ OwnF z5 x6.heap.size (.slice ag kg cg) kg (marksF 1 kg)) := by
    obtain ⟨u1, u2, u3, u5, u6, u8⟩ := HC4.out
    exact ⟨u1.trans (hb5.mono u1.size), u3.stays hb5, u5.stays hb5, u6.stays hb5, u8.stays hb5⟩
  have HF7 : Hid (Flds z5 (some ⟨g7, 0, none⟩) len0 z0) := hf7
  clear hb5 hf7 hg7 HC4 c0 c1
  go_wp2_with fail
  refine (HI'.out m i (some ⟨g7, 0, none⟩) len0 len0 z0 z5 HF7.out hsz).mono ?_
  rintro e z6 ⟨vh, mh, kh, yh, rfl, hcut, hoh, hb6⟩
  obtain ⟨rfl, rfl⟩ := hcut.one HCut.out
  obtain ⟨ah, ch, rfl⟩ := hoh.shape
  obtain rfl : kh = kg := by rw [← hoh.len, HC5.out.2.2.2.1.len]
  obtain ⟨z7, hz7⟩ : ∃ z7, z6.alloc (.cells #[.int .i64 mh, .slice ah kh ch] 29) = z7 := ⟨_, rfl⟩
  have hb67 : Below z6.heap.size z6 z7 := by rw [← hz7]; exact (Below.refl _ _).alloc (Nat.le_refl _) _
  have hb57 : Below z5.heap.size z5 z7 := hb6.trans (hb67.mono hb6.size)
  have HC7 : Hid (Below w.heap.size w z7 ∧ Box2 z7 x3.heap.size 29 (.int .i64 mh) (.slice aw kh cw) ∧ Box2 z7 x7.heap.size 29 (.int .i64 mh) (.slice ag kh cg) ∧ OwnF z7 x2.heap.size (.slice aw kh cw) kh yh ∧ OwnF z7 x6.heap.size (.slice ag kh cg) kh (marksF 1 kh)) := by
    obtain ⟨u1, u3, u5, u6, u8⟩ := HC5.out
    exact ⟨u1.trans (hb57.mono u1.size), u3.stays hb57, u5.stays hb57, u6.stays hb57, u8.stays hb57⟩
  have HH7 : Hid (Box2 z7 z6.heap.size 29 (.int .i64 mh) (.slice ah kh ch)) := by show Box2 _ _ _ _ _; rw [← hz7]; exact Box2.new _ _ _ _
  have HOh7 : Hid (OwnF z7 z5.heap.size (.slice ah kh ch) kh yh) := hoh.stays hb67
  clear hb67 hb57 hb6 hoh hcut HC5 HF7
  obtain ⟨c0, c1, _, _⟩ := HC7.out.2.1.cells
  obtain ⟨c2, c3, _, _⟩ := HH7.out.cells
  go_wp2_with fail
  refine (eqTable_same mh _ _ kh _ _ yh z7 HOh7.out.flds HC7.out.2.2.2.1.flds (by omega)).mono ?_
  rintro e z8 ⟨rfl, hb8⟩
  have HC8 : Hid (Below w.heap.size w z8 ∧ Box2 z8 x7.heap.size 29 (.int .i64 mh) (.slice ag kh cg) ∧ OwnF z8 x6.heap.size (.slice ag kh cg) kh (marksF 1 kh)) := by
    obtain ⟨u1, u3, u5, u6, u8⟩ := HC7.out
    exact ⟨u1.trans (hb8.mono u1.size), u5.stays hb8, u8.stays hb8⟩
  clear hb8 HC7 HH7 HOh7 c0 c1 c2 c3 hz7
  obtain ⟨c2, c3, _, _⟩ := HC8.out.2.1.cells
  go_wp2_with fail
  refine (HHeld.out z8 HC8.out.2.2.flds).mono ?_
  rintro e z9 ⟨rfl, hb9⟩
  have HB9 : Hid (Below w.heap.size w z9) := HC8.out.1.trans (hb9.mono HC8.out.1.size)
  clear hb9 HC8 c2 c3
  go_wp2_with fail
  go_ret
  exact ⟨rfl, HB9.out⟩

end Go.Proofs.Ytnenphedodfnnak
