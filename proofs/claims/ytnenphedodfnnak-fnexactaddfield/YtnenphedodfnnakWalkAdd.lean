/- The law that AddField answers as the specification's, but for the program's own contract. -/
import Derived.Test.YtnenphedodfnnakTabPut
import Derived.Test.YtnenphedodfnnakTabTo
import Derived.Test.YtnenphedodfnnakTabEq
import Derived.Test.YtnenphedodfnnakTabHeld
import Derived.Test.YtnenphedodfnnakTabBox
import Derived.Test.YtnenphedodfnnakTabPutBox
import Derived.Deep.RegionWith
import Derived.Deep.Cut
namespace Go.Proofs.Ytnenphedodfnnak
open Go.RowKit
set_option linter.unusedVariables false

theorem hidIt {p : Prop} (h : p) : Hid p := h

/-- A variable's block is not a row's. -/
theorem own_box_ne {W V : World} {base base' g n n' c c' size bg bx : Nat} {e : TypeId} {xs xs' : List Value} {x y x' y' : Value} (h : W.ownsRow base e size (.slice (some ⟨g, 0, none⟩) n c) n xs) (hx : Box2 V bx 29 x' y') (hb : Box2 V bg 29 x y) (h' : V.ownsRow base' e size (.slice (some ⟨g, 0, none⟩) n' c') n' xs') (hne : e ≠ 29 := by decide) : bg ≠ g := by
  rintro rfl
  rcases h'.2 with ⟨he, _⟩ | ⟨g', cap', cur, he, _, hg, _⟩
  · cases he
  · injection he with e1 _ _
    injection e1 with e1
    injection e1 with e1 _ _
    subst e1
    have := hb.symm.trans hg
    injection this with this
    injection this with _ ht _
    exact hne ht.symm

set_option maxRecDepth 10000 in
set_option maxHeartbeats 6400000 in
theorem addWalk (HI : ∀ (m : Int) (a : Option Addr) (len ca : Nat) (xs : List Fld) (x y : ByteArray) (w : World), Flds w a len xs → x.size ≤ maxLen ∧ y.size ≤ maxLen → len + (x.size + y.size) + fldBytes xs ≤ 1048576 → Calls Try.prog 19 #[.agg #[.int .i64 m, .slice a len ca], .agg #[.string x, .string y]] w fun e w' => ∃ v n ys, e = .returned (.agg #[.int .i64 m, v]) ∧ AddAns m xs (x, y) ys ∧ OwnF w' w.heap.size v n ys ∧ Below w.heap.size w w')
    (m : Int) (a0 : Option Addr) (len0 cap0 : Nat) (z0 : List Fld) (x y : ByteArray) (w : World) (hl0 : len0 ≤ maxLen) (w0 : Flds w a0 len0 z0) (hxy : x.size ≤ maxLen ∧ y.size ≤ maxLen) :
    Calls Try.prog 5 #[.agg #[.int .i64 m, .slice a0 len0 cap0], .agg #[.string x, .string y]] w fun e w' => e = .returned (.bool true) ∧ Below w.heap.size w w' := by
  have HX : Hid (Flds w a0 len0 z0) := w0
  have hz0 : z0.length = len0 := w0.1
  have HI' : Hid (∀ (m : Int) (a : Option Addr) (len ca : Nat) (xs : List Fld) (x y : ByteArray) (w : World), Flds w a len xs → x.size ≤ maxLen ∧ y.size ≤ maxLen → len + (x.size + y.size) + fldBytes xs ≤ 1048576 → Calls Try.prog 19 #[.agg #[.int .i64 m, .slice a len ca], .agg #[.string x, .string y]] w fun e w' => ∃ v n ys, e = .returned (.agg #[.int .i64 m, v]) ∧ AddAns m xs (x, y) ys ∧ OwnF w' w.heap.size v n ys ∧ Below w.heap.size w w') := HI
  clear w0 HI
  obtain ⟨hx1, hy1⟩ := hxy
  obtain ⟨x0, hx0⟩ : ∃ x0, (w.alloc (.cells #[.int .i64 m, .slice a0 len0 cap0] 24)).alloc (.cells #[.string x, .string y] 35) = x0 := ⟨_, rfl⟩
  have HB0 : Hid (Below w.heap.size w x0) := by show Below _ _ _; rw [← hx0]; exact ((Below.refl _ _).alloc (Nat.le_refl _) _).alloc (by simp) _
  have HT0 : Hid (Box2 x0 w.heap.size 24 (.int .i64 m) (.slice a0 len0 cap0)) := by show Box2 _ _ _ _ _; rw [← hx0]; exact (Box2.new _ _ _ _).alloc _
  have HF0 : Hid (Box2 x0 (w.heap.size + 1) 35 (.string x) (.string y)) := by
    show Box2 _ _ _ _ _
    rw [← hx0]
    have := Box2.new (w.alloc (.cells #[.int .i64 m, .slice a0 len0 cap0] 24)) 35 (.string x) (.string y)
    rwa [World.size_alloc] at this
  obtain ⟨c0, c1, _, _⟩ := HT0.out.cells
  go_enter Try.func5, Try.ntmps5
  go_wp2_with fail
  clear hx0
  refine (szTable_any m a0 len0 cap0 z0 1048576 x0 (HX.out.below HB0.out) (by omega) (by omega) hl0).mono ?_
  rintro e x1 ⟨⟨v, rfl, hv1, hv2⟩, hb1⟩
  have HT1 : Hid (Box2 x1 w.heap.size 24 (.int .i64 m) (.slice a0 len0 cap0)) := HT0.out.stays hb1
  have HF1 : Hid (Box2 x1 (w.heap.size + 1) 35 (.string x) (.string y)) := HF0.out.stays hb1
  have HB1 : Hid (Below w.heap.size w x1) := HB0.out.trans (hb1.mono HB0.out.size)
  have HV : Hid (0 ≤ v → v + (len0 + fldBytes z0 : Int) ≤ 1048576) := fun h => by have := hv2 h; omega
  clear hb1 hv2 HB0 HT0 HF0 c0 c1
  by_cases hneg : v < 0
  · go_wp2_with fail
    go_ret
    exact ⟨rfl, HB1.out⟩
  have hsv := HV.out (by omega)
  have hle : len0 ≤ 1048576 := by omega
  obtain ⟨c0, c1, _, _⟩ := HF1.out.cells
  go_wp2_with fail
  refine (szField_any x y v x1 hx1 hy1 (by omega) (by omega)).mono ?_
  rintro e x2 ⟨rfl, hb2⟩
  have HT2 : Hid (Box2 x2 w.heap.size 24 (.int .i64 m) (.slice a0 len0 cap0)) := HT1.out.stays hb2
  have HF2 : Hid (Box2 x2 (w.heap.size + 1) 35 (.string x) (.string y)) := HF1.out.stays hb2
  have HB2 : Hid (Below w.heap.size w x2) := HB1.out.trans (hb2.mono HB1.out.size)
  clear hb2 HT1 HF1 HB1 c0 c1 HV
  obtain ⟨v2, hv2⟩ : ∃ v2 : Int, (if v - x.size - y.size < 0 then -1 else v - x.size - y.size : Int) = v2 := ⟨_, rfl⟩
  rw [hv2]
  by_cases hneg2 : v2 < 0
  · go_wp2_with fail
    go_ret
    exact ⟨rfl, HB2.out⟩
  have hsz : len0 + (x.size + y.size) + fldBytes z0 ≤ 1048576 := by
    split at hv2
    · omega
    · omega
  clear hv2 hsv
  have hn2 : decide (v2 < 0) = false := by simp; omega
  have HT : Hid (∀ (X W : World), Below w.heap.size w X → Box2 X w.heap.size 24 (.int .i64 m) (.slice a0 len0 cap0) → Box2 X (w.heap.size + 1) 35 (.string x) (.string y) → Below X.heap.size X W → Flds W a0 len0 z0 ∧ Below w.heap.size w W ∧ Box2 W w.heap.size 24 (.int .i64 m) (.slice a0 len0 cap0) ∧ Box2 W (w.heap.size + 1) 35 (.string x) (.string y)) := fun X W h1 h2 h3 hW =>
    have hb := h1.trans (hW.mono h1.size)
    ⟨HX.out.below hb, hb, h2.stays hW, h3.stays hW⟩
  obtain ⟨c0, c1, _, _⟩ := HT2.out.cells
  obtain ⟨c2, c3, _, _⟩ := HF2.out.cells
  go_upto_region 8 with fail
  go_cut [6] from 13 (fun v6 W => ∃ (b : Nat) (aw : Option Addr) (kw cw : Nat) (ys : List Fld), v6 = .pointer (some ⟨b, 0, none⟩) ∧ Hid (AddAns m z0 (x, y) ys) ∧ Hid (Below x2.heap.size x2 W ∧ Box2 W b 29 (.int .i64 m) (.slice aw kw cw) ∧ OwnF W x2.heap.size (.slice aw kw cw) kw ys))
  case first =>
    obtain ⟨d0, d1, _, _⟩ := ((HT.out x2 x2.drew HB2.out HT2.out HF2.out (Below.refl _ _).drew).2.2.1.alloc (.cells #[.int .i64 0, .slice none 0 0] 29)).cells
    obtain ⟨d2, d3, _, _⟩ := ((HT.out x2 x2.drew HB2.out HT2.out HF2.out (Below.refl _ _).drew).2.2.2.alloc (.cells #[.int .i64 0, .slice none 0 0] 29)).cells
    obtain ⟨d4, d5, _, _⟩ := (HT2.out.alloc (.cells #[.int .i64 0, .slice none 0 0] 29)).cells
    obtain ⟨d6, d7, _, _⟩ := (HF2.out.alloc (.cells #[.int .i64 0, .slice none 0 0] 29)).cells
    have hlt2' : w.heap.size + 1 < x2.drew.heap.size := HF2.out.lt
    have hlt2c : ¬ w.heap.size + 1 = x2.drew.heap.size := by omega
    have hlt2d : ¬ w.heap.size = x2.drew.heap.size := by omega
    have hlt2 : w.heap.size + 1 < x2.heap.size := HF2.out.lt
    have hlt2a : ¬ w.heap.size + 1 = x2.heap.size := by omega
    have hlt2b : ¬ w.heap.size = x2.heap.size := by omega
    have hlt2e : ¬ x2.heap.size = w.heap.size := by omega
    have hlt2f : ¬ x2.heap.size = w.heap.size + 1 := by omega
    go_region_with (first
      | (go_at_call 11; refine (toTable_any m a0 len0 cap0 z0 _ (HT.out x2 _ HB2.out HT2.out HF2.out (by first | exact (Below.refl _ _).drew | exact (Below.refl _ _).drew.alloc (Nat.le_refl _) _)).1 hle).mono ?_; rintro e y1 ⟨g1, rfl, hg1, hf1, hb1⟩
         have hb1' : Below x2.heap.size x2 y1 := by first | exact (Below.refl x2.heap.size x2).drew.trans (hb1.mono (Nat.le_refl _)) | exact ((Below.refl x2.heap.size x2).drew.alloc (Nat.le_refl _) _).trans (hb1.mono (by simp))
         try have HQ : Hid (x2.heap.size ≤ x2.heap.size ∧ Box2 y1 x2.heap.size 29 (.int .i64 0) (.slice none 0 0)) := ⟨Nat.le_refl _, (Box2.new x2.drew 29 (.int .i64 0) (.slice none 0 0)).stays hb1⟩
         obtain ⟨k0, k1, _, _⟩ := (HT.out x2 y1 HB2.out HT2.out HF2.out hb1').2.2.2.cells
         obtain ⟨l0, l1, _, _⟩ := ((HT.out x2 y1 HB2.out HT2.out HF2.out hb1').2.2.2.alloc (.cells #[.int .i64 0, .slice none 0 0] 29)).cells
         have hlt1 : w.heap.size + 1 < y1.heap.size := (HT.out x2 y1 HB2.out HT2.out HF2.out hb1').2.2.2.lt
         have hlt1a : ¬ w.heap.size + 1 = y1.heap.size := by omega
         )
      | (go_at_call 18; refine (toField_any x y _).mono ?_; rintro e y2 ⟨rfl, hb2⟩
         have hb2' : Below y1.heap.size y1 y2 := by first | exact hb2 | exact ((Below.refl _ _).alloc (Nat.le_refl _) _).trans (hb2.mono (by simp))
         first
           | have HQ2 : Hid (x2.heap.size ≤ x2.heap.size ∧ Box2 y2 x2.heap.size 29 (.int .i64 0) (.slice none 0 0)) := ⟨Nat.le_refl _, HQ.out.2.stays hb2⟩
           | have HQ2 : Hid (x2.heap.size ≤ y1.heap.size ∧ Box2 y2 y1.heap.size 29 (.int .i64 0) (.slice none 0 0)) := ⟨hb1'.size, (Box2.new y1 29 (.int .i64 0) (.slice none 0 0)).stays hb2⟩
           | skip
         )
      | (go_at_call 17; refine (specAddF_any m _ len0 len0 z0 x y _ (by first | exact hf1.below hb2' | exact (hf1.below hb2').below ((Below.refl _ _).alloc (Nat.le_refl _) _)) ⟨hx1, hy1⟩ (by omega)).mono ?_; rintro e y3 ⟨vw, kw, ys, rfl, hadd, how, hb3⟩; obtain ⟨aw, cw, rfl⟩ := how.shape
         have hb3' : Below y2.heap.size y2 y3 := by first | exact hb3 | exact ((Below.refl _ _).alloc (Nat.le_refl _) _).trans (hb3.mono (by simp))
         have hb13 : Below x2.heap.size x2 y3 := hb1'.trans ((hb2'.trans (hb3'.mono hb2'.size)).mono hb1'.size)
         first
           | have HPut := put_box hb13 HQ2.out.1 (HQ2.out.2.stays hb3) HQ2.out.2.lt how m
             obtain ⟨q0, q1, q2, q3⟩ := (HQ2.out.2.stays hb3).cells
           | have HPut := put_box hb13 (hb1'.trans (hb2'.mono hb1'.size)).size ((Box2.new y2 29 (.int .i64 0) (.slice none 0 0)).stays hb3) (Box2.new y2 29 (.int .i64 0) (.slice none 0 0)).lt how m
             obtain ⟨q0, q1, q2, q3⟩ := ((Box2.new y2 29 (.int .i64 0) (.slice none 0 0)).stays hb3).cells
           | have HPut := put_new hb13 (hb1'.trans (hb2'.mono hb1'.size)).size how m
         ))
    all_goals
      have HFin : Hid (AddAns m z0 (x, y) ys) := hadd
      have HPutH := hidIt HPut
      clear HPut hadd how
      go_wp2_with fail
      go_meet
      exact ⟨_, aw, kw, cw, ys, rfl, HFin, HPutH⟩
  case rest =>
  obtain ⟨bw, aw, kw, cw, ys, rfl, HAdd, HW⟩ := hcut
  clear c0 c1 c2 c3
  obtain ⟨x4, hx4⟩ : ∃ x4, wc = x4 := ⟨_, rfl⟩
  rw [hx4] at HW ⊢
  clear hx4
  have hkw : kw ≤ 1048577 := by
    have h1 := HAdd.out.short
    have h2 := HW.out.2.2.len
    omega
  have HT4 : Hid (Box2 x4 w.heap.size 24 (.int .i64 m) (.slice a0 len0 cap0)) := HT2.out.stays HW.out.1
  have HF4 : Hid (Box2 x4 (w.heap.size + 1) 35 (.string x) (.string y)) := HF2.out.stays HW.out.1
  have HW4 : Hid (Box2 x4 bw 29 (.int .i64 m) (.slice aw kw cw)) := HW.out.2.1
  have HB4 : Hid (Below w.heap.size w x4) := HB2.out.trans (HW.out.1.mono HB2.out.size)
  have HOw4 : Hid (OwnF x4 x2.heap.size (.slice aw kw cw) kw ys) := HW.out.2.2
  have HLt : Hid (∀ k, (Value.slice aw kw cw).ownBlock = some k → k < x4.heap.size) := fun k hk => (HOw4.out.lt k hk).2
  have HLb : Hid (bw < x4.heap.size ∧ w.heap.size + 1 < x4.heap.size) := ⟨HW4.out.lt, HF4.out.lt⟩
  clear HW HT2 HF2 HB2
  obtain ⟨c0, c1, _, _⟩ := HT4.out.cells
  go_wp2_with fail
  refine (toTable_own m a0 len0 cap0 z0 x4 (HX.out.below HB4.out) hle).mono ?_
  rintro e x5 ⟨g5, rfl, hg5, ho5, hf5, hb5⟩
  have HT5 : Hid (Box2 x5 w.heap.size 24 (.int .i64 m) (.slice a0 len0 cap0)) := HT4.out.stays hb5
  have HF5 : Hid (Box2 x5 (w.heap.size + 1) 35 (.string x) (.string y)) := HF4.out.stays hb5
  have HW5 : Hid (Box2 x5 bw 29 (.int .i64 m) (.slice aw kw cw)) := HW4.out.stays hb5
  have HB5 : Hid (Below w.heap.size w x5) := HB4.out.trans (hb5.mono HB4.out.size)
  have HOw5 : Hid (OwnF x5 x2.heap.size (.slice aw kw cw) kw ys) := HOw4.out.stays hb5
  have HOx5 : Hid (OwnF x5 x4.heap.size (.slice (some ⟨g5, 0, none⟩) len0 len0) len0 z0) := ⟨ho5, HX.out.2.1⟩
  clear hb5 hf5 ho5 HT4 HF4 HW4 HB4 HOw4 c0 c1
  have hg5lt : g5 < x5.heap.size := (HOx5.out.lt g5 rfl).2
  obtain ⟨x6, hx6⟩ : ∃ x6, x5.alloc (.cells #[.int .i64 m, .slice (some ⟨g5, 0, none⟩) len0 len0] 29) = x6 := ⟨_, rfl⟩
  have hb56 : Below x5.heap.size x5 x6 := by rw [← hx6]; exact (Below.refl _ _).alloc (Nat.le_refl _) _
  have HX6 : Hid (Box2 x6 x5.heap.size 29 (.int .i64 m) (.slice (some ⟨g5, 0, none⟩) len0 len0)) := by show Box2 _ _ _ _ _; rw [← hx6]; exact Box2.new _ _ _ _
  have HS6 : Hid (g5 < x6.heap.size) := Nat.lt_of_lt_of_le hg5lt hb56.size
  have HG5 : Hid (x4.heap.size ≤ g5) := hg5
  have HT6 : Hid (Box2 x6 w.heap.size 24 (.int .i64 m) (.slice a0 len0 cap0)) := HT5.out.stays hb56
  have HF6 : Hid (Box2 x6 (w.heap.size + 1) 35 (.string x) (.string y)) := HF5.out.stays hb56
  have HW6 : Hid (Box2 x6 bw 29 (.int .i64 m) (.slice aw kw cw)) := HW5.out.stays hb56
  have HB6 : Hid (Below w.heap.size w x6) := HB5.out.trans (hb56.mono HB5.out.size)
  have HOw6 : Hid (OwnF x6 x2.heap.size (.slice aw kw cw) kw ys) := HOw5.out.stays hb56
  have HOx6 : Hid (OwnF x6 x4.heap.size (.slice (some ⟨g5, 0, none⟩) len0 len0) len0 z0) := HOx5.out.stays hb56
  clear HT5 HF5 HW5 HB5 HOw5 HOx5 hb56 hg5 hg5lt
  go_upto_region 10 with fail
  try rw [hx6]
  clear hx6
  generalize x5.heap.size = bx at *
  obtain ⟨c0, c1, _, _⟩ := HX6.out.cells
  obtain ⟨c2, c3, _, _⟩ := HF6.out.cells
  go_cut [8] from 13 (fun v8 W => ∃ (b : Nat) (ag : Option Addr) (kg cg : Nat) (yg : List Fld), v8 = .pointer (some ⟨b, 0, none⟩) ∧ Hid (AddAns m z0 (x, y) yg) ∧ Hid (Below x6.heap.size x6 W ∧ Box2 W b 29 (.int .i64 m) (.slice ag kg cg) ∧ OwnF W x6.heap.size (.slice ag kg cg) kg yg))
  case first =>
    obtain ⟨d0, d1, _, _⟩ := (HX6.out.alloc (.cells #[.int .i64 0, .slice none 0 0] 29)).cells
    obtain ⟨d2, d3, _, _⟩ := (HF6.out.alloc (.cells #[.int .i64 0, .slice none 0 0] 29)).cells
    have hlt2 : bx < x6.heap.size := HX6.out.lt
    have hlt2' : w.heap.size + 1 < x6.heap.size := HF6.out.lt
    have hlt2a : ¬ bx = x6.heap.size := by omega
    have hlt2b : ¬ x6.heap.size = bx := by omega
    have hlt2c : ¬ w.heap.size + 1 = x6.heap.size := by omega
    have hlt2d : ¬ x6.heap.size = w.heap.size + 1 := by omega
    go_region_with (first
      | (go_at_call 18; refine (toField_any x y _).mono ?_; rintro e y2 ⟨rfl, hb2⟩
         have hb2' : Below x6.heap.size x6 y2 := by first | exact (Below.refl x6.heap.size x6).drew.trans (hb2.mono (Nat.le_refl _)) | exact ((Below.refl x6.heap.size x6).drew.alloc (Nat.le_refl _) _).trans (hb2.mono (by simp))
         try have HQ2 : Hid (x6.heap.size ≤ x6.heap.size ∧ Box2 y2 x6.heap.size 29 (.int .i64 0) (.slice none 0 0)) := ⟨Nat.le_refl _, (Box2.new x6.drew 29 (.int .i64 0) (.slice none 0 0)).stays hb2⟩
         obtain ⟨k0, k1, _, _⟩ := (HX6.out.stays hb2').cells
         obtain ⟨l0, l1, _, _⟩ := ((HX6.out.stays hb2').alloc (.cells #[.int .i64 0, .slice none 0 0] 29)).cells
         have hlt3 : bx < y2.heap.size := (HX6.out.stays hb2').lt
         have hlt3a : ¬ bx = y2.heap.size := by omega
         have hlt3b : ¬ y2.heap.size = bx := by omega)
      | (go_at_call 19; refine (HI'.out m _ len0 len0 z0 x y _ (by first | exact (HOx6.out.stays hb2').flds | exact ((HOx6.out.stays hb2').stays ((Below.refl _ _).alloc (Nat.le_refl _) _)).flds) ⟨hx1, hy1⟩ hsz).mono ?_; rintro e y3 ⟨vg, kg, yg, rfl, hadd, hog, hb3⟩; obtain ⟨ag, cg, rfl⟩ := hog.shape
         have hb3' : Below y2.heap.size y2 y3 := by first | exact hb3 | exact ((Below.refl _ _).alloc (Nat.le_refl _) _).trans (hb3.mono (by simp))
         have hb13 : Below x6.heap.size x6 y3 := hb2'.trans (hb3'.mono hb2'.size)
         first
           | have HPut := put_box hb13 HQ2.out.1 (HQ2.out.2.stays hb3) HQ2.out.2.lt hog m
             obtain ⟨q0, q1, q2, q3⟩ := (HQ2.out.2.stays hb3).cells
           | have HPut := put_box hb13 hb2'.size ((Box2.new y2 29 (.int .i64 0) (.slice none 0 0)).stays hb3) (Box2.new y2 29 (.int .i64 0) (.slice none 0 0)).lt hog m
             obtain ⟨q0, q1, q2, q3⟩ := ((Box2.new y2 29 (.int .i64 0) (.slice none 0 0)).stays hb3).cells
           | have HPut := put_new hb13 hb2'.size hog m))
    all_goals
      have HFin : Hid (AddAns m z0 (x, y) yg) := hadd
      have HPutH := hidIt HPut
      clear HPut hadd hog
      go_wp2_with fail
      go_meet
      exact ⟨_, ag, kg, cg, yg, rfl, HFin, HPutH⟩
  case rest =>
  obtain ⟨bg, ag, kg, cg, yg, rfl, HAddG, HG⟩ := hcut
  clear c0 c1 c2 c3
  obtain ⟨x8, hx8⟩ : ∃ x8, wc = x8 := ⟨_, rfl⟩
  rw [hx8] at HG ⊢
  clear hx8
  obtain rfl := HAddG.out.one HAdd.out
  obtain rfl : kg = kw := by rw [← HG.out.2.2.len, HOw6.out.len]
  have hb68 := HG.out.1
  have HT8 : Hid (Box2 x8 w.heap.size 24 (.int .i64 m) (.slice a0 len0 cap0)) := HT6.out.stays hb68
  have HF8 : Hid (Box2 x8 (w.heap.size + 1) 35 (.string x) (.string y)) := HF6.out.stays hb68
  have HW8 : Hid (Box2 x8 bw 29 (.int .i64 m) (.slice aw kg cw)) := HW6.out.stays hb68
  have HX8 : Hid (Box2 x8 bx 29 (.int .i64 m) (.slice (some ⟨g5, 0, none⟩) len0 len0)) := HX6.out.stays hb68
  have HG8 : Hid (Box2 x8 bg 29 (.int .i64 m) (.slice ag kg cg)) := HG.out.2.1
  have HB8 : Hid (Below w.heap.size w x8) := HB6.out.trans (hb68.mono HB6.out.size)
  have HOw8 : Hid (OwnF x8 x2.heap.size (.slice aw kg cw) kg yg) := HOw6.out.stays hb68
  have HOx8 : Hid (OwnF x8 x4.heap.size (.slice (some ⟨g5, 0, none⟩) len0 len0) len0 z0) := HOx6.out.stays hb68
  have HOg8 : Hid (OwnF x8 x6.heap.size (.slice ag kg cg) kg yg) := HG.out.2.2
  have hbg : Hid (bg ≠ g5) := own_box_ne HOx6.out.1 HX8.out HG8.out HOx8.out.1
  clear hb68 HG HT6 HF6 HW6 HX6 HB6 HOw6 HOx6 HAddG
  obtain ⟨c0, c1, _, _⟩ := HW8.out.cells
  obtain ⟨c2, c3, _, _⟩ := HG8.out.cells
  go_wp2_with fail
  refine (eqTable_same m _ _ kg _ _ yg x8 HOg8.out.flds HOw8.out.flds (by omega)).mono ?_
  rintro e x9 ⟨rfl, hb9⟩
  have HU : Hid (∀ W, Below x9.heap.size x9 W → Below w.heap.size w W ∧ Box2 W w.heap.size 24 (.int .i64 m) (.slice a0 len0 cap0) ∧ Box2 W bw 29 (.int .i64 m) (.slice aw kg cw) ∧ Box2 W bx 29 (.int .i64 m) (.slice (some ⟨g5, 0, none⟩) len0 len0) ∧ Box2 W bg 29 (.int .i64 m) (.slice ag kg cg) ∧ OwnF W x2.heap.size (.slice aw kg cw) kg yg ∧ OwnF W x4.heap.size (.slice (some ⟨g5, 0, none⟩) len0 len0) len0 z0 ∧ OwnF W x6.heap.size (.slice ag kg cg) kg yg ∧ Flds W a0 len0 z0 ∧ Box2 W (w.heap.size + 1) 35 (.string x) (.string y)) := by
    intro W hW
    have hb : Below x8.heap.size x8 W := hb9.trans (hW.mono hb9.size)
    have hbw := HB8.out.trans (hb.mono HB8.out.size)
    exact ⟨hbw, HT8.out.stays hb, HW8.out.stays hb, HX8.out.stays hb, HG8.out.stays hb, HOw8.out.stays hb, HOx8.out.stays hb, HOg8.out.stays hb, HX.out.below hbw, HF8.out.stays hb⟩
  clear HT8 HF8 HW8 HX8 HG8 HB8 HOw8 HOx8 HOg8 c0 c1 c2 c3 hb9
  obtain ⟨c0, c1, _, _⟩ := (HU.out x9 (Below.refl _ _)).2.1.cells
  obtain ⟨c2, c3, _, _⟩ := (HU.out x9 (Below.refl _ _)).2.2.2.1.cells
  go_upto_region 13 with fail
  go_cut [42] from 13 (fun v42 W => v42 = .bool false ∧ Hid (Below x9.heap.size x9 W))
  case first =>
    go_region_with (first
      | (go_at_call 11; refine (toTable_any m a0 len0 cap0 z0 _ (HU.out _ (Below.refl _ _).drew).2.2.2.2.2.2.2.2.1 hle).mono ?_; rintro e y1 ⟨g6, rfl, hg6, hf6, hb6⟩; have hb6' : Below x9.heap.size x9 y1 := (Below.refl x9.heap.size x9).drew.trans (hb6.mono (Nat.le_refl _)); obtain ⟨k0, k1, _, _⟩ := (HU.out _ hb6').2.2.2.1.cells)
      | (go_at_call 13; refine (eqTable_same m _ _ len0 len0 len0 z0 _ (HU.out _ hb6').2.2.2.2.2.2.1.flds hf6 (by omega)).mono ?_; rintro e y2 ⟨rfl, hb7⟩))
    all_goals
      have HB92 : Hid (Below x9.heap.size x9 y2) := by
        show Below _ _ _
        first
          | exact hb6'.trans (hb7.mono hb6'.size)
          | exact hb6'.drew.trans (hb7.mono hb6'.size)
      clear hb7 hb6 hb6' hf6 hg6 k0 k1
      go_wp2_with fail
      go_meet
      exact ⟨rfl, HB92⟩
  case rest =>
  obtain ⟨rfl, HBc⟩ := hcut
  clear c0 c1 c2 c3
  obtain ⟨u1, u2, u3, u4, u5, u6, u7, u8, u9, u10⟩ := HU.out wc HBc.out
  obtain ⟨c2, c3, _, _⟩ := u4.cells
  have HC : Hid (Below w.heap.size w wc ∧ Box2 wc w.heap.size 24 (.int .i64 m) (.slice a0 len0 cap0) ∧ Box2 wc bw 29 (.int .i64 m) (.slice aw kg cw) ∧ Box2 wc bg 29 (.int .i64 m) (.slice ag kg cg) ∧ OwnF wc x2.heap.size (.slice aw kg cw) kg yg ∧ OwnF wc x6.heap.size (.slice ag kg cg) kg yg ∧ Box2 wc (w.heap.size + 1) 35 (.string x) (.string y)) := ⟨u1, u2, u3, u5, u6, u8, u10⟩
  have HOx : Hid (OwnF wc x4.heap.size (.slice (some ⟨g5, 0, none⟩) len0 len0) len0 z0) := u7
  clear u1 u2 u3 u4 u5 u6 u7 u8 u9 u10 HU HBc
  go_wp2_with fail
  refine (markT_any x4.heap.size m (some ⟨g5, 0, none⟩) len0 len0 z0 wc HOx.out (by omega)).mono ?_
  rintro e z1 ⟨rfl, _, hgr⟩
  have hgr' : wc.grownBy z1 (some g5) := hgr
  have s1 := HS6.out
  have s2 := HG5.out
  have s3 := HLb.out
  have s4 := hbg.out
  have HC1 : Hid (Below w.heap.size w z1 ∧ Box2 z1 w.heap.size 24 (.int .i64 m) (.slice a0 len0 cap0) ∧ Box2 z1 bw 29 (.int .i64 m) (.slice aw kg cw) ∧ Box2 z1 bg 29 (.int .i64 m) (.slice ag kg cg) ∧ OwnF z1 x2.heap.size (.slice aw kg cw) kg yg ∧ OwnF z1 x6.heap.size (.slice ag kg cg) kg yg ∧ Box2 z1 (w.heap.size + 1) 35 (.string x) (.string y)) := by
    obtain ⟨u1, u2, u3, u5, u6, u8, u10⟩ := HC.out
    refine ⟨u1.grown hgr' u1.size (fun k hk => by injection hk with hk; omega), u2.grown hgr' (by intro e; injection e with e; omega), u3.grown hgr' (by intro e; injection e with e; omega), u5.grown hgr' (by intro e; injection e with e; omega), u6.grown hgr' (.inr ?_), u8.grown hgr' (.inr ?_), u10.grown hgr' (by intro e; injection e with e; omega)⟩
    · intro e
      have := HLt.out g5 e
      omega
    · intro e
      have := (u8.lt g5 e).1
      omega
  clear hgr hgr' HC HOx c2 c3 s1 s2 s3 s4
  obtain ⟨c0, c1, _, _⟩ := HC1.out.2.2.1.cells
  obtain ⟨c2, c3, _, _⟩ := HC1.out.2.2.2.1.cells
  have hp1 : ¬ ((1 + 2 * len0 : Nat) : Int) < 0 := by omega
  have hp1d : decide (((1 + 2 * len0 : Nat) : Int) < 0) = false := by simp; omega
  generalize ((1 + 2 * len0 : Nat) : Int) = q1 at *
  go_wp2_with fail
  refine (eqTable_same m _ _ kg _ _ yg z1 HC1.out.2.2.2.2.2.1.flds HC1.out.2.2.2.2.1.flds (by omega)).mono ?_
  rintro e z2 ⟨rfl, hb2⟩
  have HC2 : Hid (Below w.heap.size w z2 ∧ Box2 z2 w.heap.size 24 (.int .i64 m) (.slice a0 len0 cap0) ∧ Box2 z2 bw 29 (.int .i64 m) (.slice aw kg cw) ∧ Box2 z2 bg 29 (.int .i64 m) (.slice ag kg cg) ∧ OwnF z2 x2.heap.size (.slice aw kg cw) kg yg ∧ OwnF z2 x6.heap.size (.slice ag kg cg) kg yg ∧ Box2 z2 (w.heap.size + 1) 35 (.string x) (.string y)) := by
    obtain ⟨u1, u2, u3, u5, u6, u8, u10⟩ := HC1.out
    exact ⟨u1.trans (hb2.mono u1.size), u2.stays hb2, u3.stays hb2, u5.stays hb2, u6.stays hb2, u8.stays hb2, u10.stays hb2⟩
  clear hb2 HC1 c0 c1 c2 c3
  obtain ⟨c2, c3, _, _⟩ := HC2.out.2.2.2.1.cells
  go_wp2_with fail
  refine (markT_any x6.heap.size m ag kg cg yg z2 HC2.out.2.2.2.2.2.1 (by omega)).mono ?_
  rintro e z3 ⟨rfl, hmk, hgr⟩
  rw [← ownBlock_slice ag kg cg] at hgr
  have HC3 : Hid (Below w.heap.size w z3 ∧ Box2 z3 w.heap.size 24 (.int .i64 m) (.slice a0 len0 cap0) ∧ Box2 z3 bw 29 (.int .i64 m) (.slice aw kg cw) ∧ Box2 z3 bg 29 (.int .i64 m) (.slice ag kg cg) ∧ OwnF z3 x2.heap.size (.slice aw kg cw) kg yg ∧ OwnF z3 x6.heap.size (.slice ag kg cg) kg (marksF 1 kg) ∧ Box2 z3 (w.heap.size + 1) 35 (.string x) (.string y)) := by
    obtain ⟨u1, u2, u3, u5, u6, u8, u10⟩ := HC2.out
    have s1 := HS6.out
    have s2 := HG5.out
    have s3 := HLb.out
    refine ⟨u1.grown hgr u1.size (fun k hk => by have := (u8.lt k hk).1; omega), u2.grown hgr (own_other' u8.1 u2 (by decide)), u3.grown hgr (own_other' u8.1 u3 (by decide)), u5.grown hgr (own_other' u8.1 u5 (by decide)), u6.grown hgr ?_, hmk, u10.grown hgr (own_other' u8.1 u10 (by decide))⟩
    cases hb : (Value.slice aw kg cw).ownBlock with
    | none => exact .inl rfl
    | some k =>
      right
      intro e
      have h1 := HLt.out k hb
      have h2 := (u8.lt k e.symm).1
      omega
  clear hmk hgr HC2 c2 c3
  obtain ⟨c2, c3, _, _⟩ := HC3.out.2.2.2.1.cells
  have hp2 : ¬ ((1 + 2 * kg : Nat) : Int) < 0 := by omega
  have hp2d : decide (((1 + 2 * kg : Nat) : Int) < 0) = false := by simp; omega
  have hp2e : (((1 + 2 * kg : Nat) : Int) != ((1 + 2 * kg : Nat) : Int)) = false := by simp
  have HHeld : Hid (∀ W, Flds W ag kg (marksF 1 kg) → Calls Try.prog 21 #[.agg #[.int .i64 m, .slice ag kg cg], .int .i64 1] W fun e w' => e = .returned (.int .i64 ((1 + 2 * kg : Nat) : Int)) ∧ Below W.heap.size W w') := fun W hW => heldT_any m ag kg cg W hW (by omega)
  generalize ((1 + 2 * kg : Nat) : Int) = q2 at *
  go_wp2_with fail
  refine (HHeld.out z3 HC3.out.2.2.2.2.2.1.flds).mono ?_
  rintro e z4 ⟨rfl, hb4⟩
  have HC4 : Hid (Below w.heap.size w z4 ∧ Box2 z4 w.heap.size 24 (.int .i64 m) (.slice a0 len0 cap0) ∧ Box2 z4 bw 29 (.int .i64 m) (.slice aw kg cw) ∧ Box2 z4 bg 29 (.int .i64 m) (.slice ag kg cg) ∧ OwnF z4 x2.heap.size (.slice aw kg cw) kg yg ∧ OwnF z4 x6.heap.size (.slice ag kg cg) kg (marksF 1 kg) ∧ Box2 z4 (w.heap.size + 1) 35 (.string x) (.string y)) := by
    obtain ⟨u1, u2, u3, u5, u6, u8, u10⟩ := HC3.out
    exact ⟨u1.trans (hb4.mono u1.size), u2.stays hb4, u3.stays hb4, u5.stays hb4, u6.stays hb4, u8.stays hb4, u10.stays hb4⟩
  clear hb4 HC3 c2 c3
  obtain ⟨c0, c1, _, _⟩ := HC4.out.2.1.cells
  obtain ⟨c2, c3, _, _⟩ := HC4.out.2.2.2.2.2.2.cells
  go_upto_region 27 with fail
  go_cut [12] from 13 (fun v12 W => ∃ (b : Nat) (ah : Option Addr) (kh ch : Nat) (yh : List Fld), v12 = .pointer (some ⟨b, 0, none⟩) ∧ Hid (AddAns m z0 (x, y) yh) ∧ Hid (Below z4.heap.size z4 W ∧ Box2 W b 29 (.int .i64 m) (.slice ah kh ch) ∧ OwnF W z4.heap.size (.slice ah kh ch) kh yh))
  case first =>
    obtain ⟨d0, d1, _, _⟩ := ((HT.out z4 z4.drew HC4.out.1 HC4.out.2.1 HC4.out.2.2.2.2.2.2 (Below.refl _ _).drew).2.2.1.alloc (.cells #[.int .i64 0, .slice none 0 0] 29)).cells
    obtain ⟨d2, d3, _, _⟩ := ((HT.out z4 z4.drew HC4.out.1 HC4.out.2.1 HC4.out.2.2.2.2.2.2 (Below.refl _ _).drew).2.2.2.alloc (.cells #[.int .i64 0, .slice none 0 0] 29)).cells
    obtain ⟨d4, d5, _, _⟩ := (HC4.out.2.1.alloc (.cells #[.int .i64 0, .slice none 0 0] 29)).cells
    obtain ⟨d6, d7, _, _⟩ := (HC4.out.2.2.2.2.2.2.alloc (.cells #[.int .i64 0, .slice none 0 0] 29)).cells
    have hlt2' : w.heap.size + 1 < z4.drew.heap.size := HC4.out.2.2.2.2.2.2.lt
    have hlt2c : ¬ w.heap.size + 1 = z4.drew.heap.size := by omega
    have hlt2d : ¬ w.heap.size = z4.drew.heap.size := by omega
    have hlt2 : w.heap.size + 1 < z4.heap.size := HC4.out.2.2.2.2.2.2.lt
    have hlt2a : ¬ w.heap.size + 1 = z4.heap.size := by omega
    have hlt2b : ¬ w.heap.size = z4.heap.size := by omega
    have hlt2e : ¬ z4.heap.size = w.heap.size := by omega
    have hlt2f : ¬ z4.heap.size = w.heap.size + 1 := by omega
    go_region_with (first
      | (go_at_call 11; refine (toTable_any m a0 len0 cap0 z0 _ (HT.out z4 _ HC4.out.1 HC4.out.2.1 HC4.out.2.2.2.2.2.2 (by first | exact (Below.refl _ _).drew | exact (Below.refl _ _).drew.alloc (Nat.le_refl _) _)).1 hle).mono ?_; rintro e y1 ⟨g1, rfl, hg1, hf1, hb1⟩
         have hb1' : Below z4.heap.size z4 y1 := by first | exact (Below.refl z4.heap.size z4).drew.trans (hb1.mono (Nat.le_refl _)) | exact ((Below.refl z4.heap.size z4).drew.alloc (Nat.le_refl _) _).trans (hb1.mono (by simp))
         try have HQ : Hid (z4.heap.size ≤ z4.heap.size ∧ Box2 y1 z4.heap.size 29 (.int .i64 0) (.slice none 0 0)) := ⟨Nat.le_refl _, (Box2.new z4.drew 29 (.int .i64 0) (.slice none 0 0)).stays hb1⟩
         obtain ⟨k0, k1, _, _⟩ := (HT.out z4 y1 HC4.out.1 HC4.out.2.1 HC4.out.2.2.2.2.2.2 hb1').2.2.2.cells
         obtain ⟨l0, l1, _, _⟩ := ((HT.out z4 y1 HC4.out.1 HC4.out.2.1 HC4.out.2.2.2.2.2.2 hb1').2.2.2.alloc (.cells #[.int .i64 0, .slice none 0 0] 29)).cells
         have hlt1 : w.heap.size + 1 < y1.heap.size := (HT.out z4 y1 HC4.out.1 HC4.out.2.1 HC4.out.2.2.2.2.2.2 hb1').2.2.2.lt
         have hlt1a : ¬ w.heap.size + 1 = y1.heap.size := by omega
         )
      | (go_at_call 18; refine (toField_any x y _).mono ?_; rintro e y2 ⟨rfl, hb2⟩
         have hb2' : Below y1.heap.size y1 y2 := by first | exact hb2 | exact ((Below.refl _ _).alloc (Nat.le_refl _) _).trans (hb2.mono (by simp))
         first
           | have HQ2 : Hid (z4.heap.size ≤ z4.heap.size ∧ Box2 y2 z4.heap.size 29 (.int .i64 0) (.slice none 0 0)) := ⟨Nat.le_refl _, HQ.out.2.stays hb2⟩
           | have HQ2 : Hid (z4.heap.size ≤ y1.heap.size ∧ Box2 y2 y1.heap.size 29 (.int .i64 0) (.slice none 0 0)) := ⟨hb1'.size, (Box2.new y1 29 (.int .i64 0) (.slice none 0 0)).stays hb2⟩
           | skip
         )
      | (go_at_call 19; refine (HI'.out m _ len0 len0 z0 x y _ (by first | exact hf1.below hb2' | exact (hf1.below hb2').below ((Below.refl _ _).alloc (Nat.le_refl _) _)) ⟨hx1, hy1⟩ hsz).mono ?_; rintro e y3 ⟨vh, kh, yh, rfl, hadd, hoh, hb3⟩; obtain ⟨ah, ch, rfl⟩ := hoh.shape
         have hb3' : Below y2.heap.size y2 y3 := by first | exact hb3 | exact ((Below.refl _ _).alloc (Nat.le_refl _) _).trans (hb3.mono (by simp))
         have hb13 : Below z4.heap.size z4 y3 := hb1'.trans ((hb2'.trans (hb3'.mono hb2'.size)).mono hb1'.size)
         first
           | have HPut := put_box hb13 HQ2.out.1 (HQ2.out.2.stays hb3) HQ2.out.2.lt hoh m
             obtain ⟨q0, q1, q2, q3⟩ := (HQ2.out.2.stays hb3).cells
           | have HPut := put_box hb13 (hb1'.trans (hb2'.mono hb1'.size)).size ((Box2.new y2 29 (.int .i64 0) (.slice none 0 0)).stays hb3) (Box2.new y2 29 (.int .i64 0) (.slice none 0 0)).lt hoh m
             obtain ⟨q0, q1, q2, q3⟩ := ((Box2.new y2 29 (.int .i64 0) (.slice none 0 0)).stays hb3).cells
           | have HPut := put_new hb13 (hb1'.trans (hb2'.mono hb1'.size)).size hoh m
         ))
    all_goals
      have HFin : Hid (AddAns m z0 (x, y) yh) := hadd
      have HPutH := hidIt HPut
      clear HPut hadd hoh
      go_wp2_with fail
      go_meet
      exact ⟨_, ah, kh, ch, yh, rfl, HFin, HPutH⟩
  case rest =>
  obtain ⟨bh, ah, kh, ch, yh, rfl, HAddH, HH⟩ := hcut
  clear c0 c1 c2 c3
  obtain rfl := HAddH.out.one HAdd.out
  obtain rfl : kh = kg := by rw [← HH.out.2.2.len, HC4.out.2.2.2.2.1.len]
  have hb47 := HH.out.1
  have HC7 : Hid (Below w.heap.size w wc ∧ Box2 wc bw 29 (.int .i64 m) (.slice aw kh cw) ∧ Box2 wc bg 29 (.int .i64 m) (.slice ag kh cg) ∧ OwnF wc x2.heap.size (.slice aw kh cw) kh yh ∧ OwnF wc x6.heap.size (.slice ag kh cg) kh (marksF 1 kh)) := by
    obtain ⟨u1, u2, u3, u5, u6, u8, u10⟩ := HC4.out
    exact ⟨u1.trans (hb47.mono u1.size), u3.stays hb47, u5.stays hb47, u6.stays hb47, u8.stays hb47⟩
  have HH7 : Hid (Box2 wc bh 29 (.int .i64 m) (.slice ah kh ch)) := HH.out.2.1
  have HOh7 : Hid (OwnF wc z4.heap.size (.slice ah kh ch) kh yh) := HH.out.2.2
  clear hb47 HH HAddH HC4
  obtain ⟨c0, c1, _, _⟩ := HC7.out.2.1.cells
  obtain ⟨c2, c3, _, _⟩ := HH7.out.cells
  go_wp2_with fail
  refine (eqTable_same m _ _ kh _ _ yh wc HOh7.out.flds HC7.out.2.2.2.1.flds (by omega)).mono ?_
  rintro e z8 ⟨rfl, hb8⟩
  have HC8 : Hid (Below w.heap.size w z8 ∧ Box2 z8 bg 29 (.int .i64 m) (.slice ag kh cg) ∧ OwnF z8 x6.heap.size (.slice ag kh cg) kh (marksF 1 kh)) := by
    obtain ⟨u1, u3, u5, u6, u8⟩ := HC7.out
    exact ⟨u1.trans (hb8.mono u1.size), u5.stays hb8, u8.stays hb8⟩
  clear hb8 HC7 HH7 HOh7 c0 c1 c2 c3
  obtain ⟨c2, c3, _, _⟩ := HC8.out.2.1.cells
  go_wp2_with fail
  refine (HHeld.out z8 HC8.out.2.2.flds).mono ?_
  rintro e z9 ⟨rfl, hb9⟩
  have HB9 : Hid (Below w.heap.size w z9) := HC8.out.1.trans (hb9.mono HC8.out.1.size)
  clear hb9 HC8 c2 c3
  go_wp2_with fail
  go_ret
  exact ⟨rfl, HB9.out⟩

end Go.Proofs.Ytnenphedodfnnak
