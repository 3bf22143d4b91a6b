/- The law that FieldAt answers as the specification's, but for the program's own contract. -/
import Derived.Test.YtnenphedodfnnakTabAt
import Derived.Test.YtnenphedodfnnakTabTo
import Derived.Test.YtnenphedodfnnakTabEq
import Derived.Test.YtnenphedodfnnakTabBox
import Derived.Deep.RegionWith
namespace Go.Proofs.Ytnenphedodfnnak
open Go.RowKit
set_option linter.unusedVariables false

set_option maxRecDepth 10000 in
set_option maxHeartbeats 3200000 in
theorem atWalk (HI : ∀ (m i : Int) (a : Option Addr) (len ca : Nat) (xs : List Fld) (w : World), Flds w a len xs → len ≤ 1048576 → i ≤ 9223372036854775807 → Calls Try.prog 25 #[.agg #[.int .i64 m, .slice a len ca], .int .i64 i] w fun e w' => e = .returned (.tuple #[.agg #[.string (atAns xs i).1.1, .string (atAns xs i).1.2], .bool (atAns xs i).2]) ∧ Below w.heap.size w w')
    (m i : Int) (a0 : Option Addr) (len0 cap0 : Nat) (z0 : List Fld) (w : World) (hl0 : len0 ≤ maxLen) (w0 : Flds w a0 len0 z0) (hi2 : i ≤ 9223372036854775807) :
    Calls Try.prog 7 #[.agg #[.int .i64 m, .slice a0 len0 cap0], .int .i64 i] w fun e w' => e = .returned (.bool true) ∧ Below w.heap.size w w' := by
  have HX : Hid (Flds w a0 len0 z0) := w0
  have HI' : Hid (∀ (m i : Int) (a : Option Addr) (len ca : Nat) (xs : List Fld) (w : World), Flds w a len xs → len ≤ 1048576 → i ≤ 9223372036854775807 → Calls Try.prog 25 #[.agg #[.int .i64 m, .slice a len ca], .int .i64 i] w fun e w' => e = .returned (.tuple #[.agg #[.string (atAns xs i).1.1, .string (atAns xs i).1.2], .bool (atAns xs i).2]) ∧ Below w.heap.size w w') := HI
  have HI2 : Hid (i ≤ 9223372036854775807) := hi2
  clear w0 HI hi2
  obtain ⟨x0, hx0⟩ : ∃ x0, w.alloc (.cells #[.int .i64 m, .slice a0 len0 cap0] 24) = x0 := ⟨_, rfl⟩
  have HB0 : Hid (Below w.heap.size w x0) := by show Below _ _ _; rw [← hx0]; exact (Below.refl _ _).alloc (Nat.le_refl _) _
  have HT0 : Hid (Box2 x0 w.heap.size 24 (.int .i64 m) (.slice a0 len0 cap0)) := by show Box2 _ _ _ _ _; rw [← hx0]; exact Box2.new _ _ _ _
  obtain ⟨c0, c1, _, _⟩ := HT0.out.cells
  go_enter Try.func7, Try.ntmps7
  go_wp2_with fail
  clear hx0
  refine (szTable_any m a0 len0 cap0 z0 1048576 x0 (HX.out.below HB0.out) (by omega) (by omega) hl0).mono ?_
  rintro e x1 ⟨⟨v, rfl, hv1, hv2⟩, hb1⟩
  have HT1 : Hid (Box2 x1 w.heap.size 24 (.int .i64 m) (.slice a0 len0 cap0)) := HT0.out.stays hb1
  have HB1 : Hid (Below w.heap.size w x1) := HB0.out.trans (hb1.mono HB0.out.size)
  have HV : Hid (0 ≤ v → (len0 + fldBytes z0 : Int) ≤ 1048576) := fun h => by have := hv2 h; omega
  clear hb1 hv2 HB0 HT0 c0 c1
  by_cases hneg : v < 0
  · go_wp2_with fail
    go_ret
    exact ⟨rfl, HB1.out⟩
  have hsz : len0 + fldBytes z0 ≤ 1048576 := by have := HV.out (by omega); omega
  have hle : len0 ≤ 1048576 := by omega
  obtain ⟨c0, c1, _, _⟩ := HT1.out.cells
  go_wp2_with fail
  refine (toTable_any m a0 len0 cap0 z0 x1 (HX.out.below HB1.out) hle).mono ?_
  rintro e x2 ⟨g2, rfl, hg2, hf2, hb2⟩
  have HT2 : Hid (Box2 x2 w.heap.size 24 (.int .i64 m) (.slice a0 len0 cap0)) := HT1.out.stays hb2
  have HB2 : Hid (Below w.heap.size w x2) := HB1.out.trans (hb2.mono HB1.out.size)
  have HF2 : Hid (Flds x2 (some ⟨g2, 0, none⟩) len0 z0) := hf2
  clear hb2 hf2 HT1 HB1 hg2 c0 c1
  go_wp2_with fail
  refine (specAt_any m i (some ⟨g2, 0, none⟩) len0 len0 z0 x2 HF2.out (by omega) HI2.out).mono ?_
  rintro e x3 ⟨rfl, hb3⟩
  have HT3 : Hid (Box2 x3 w.heap.size 24 (.int .i64 m) (.slice a0 len0 cap0)) := HT2.out.stays hb3
  have HB3 : Hid (Below w.heap.size w x3) := HB2.out.trans (hb3.mono HB2.out.size)
  clear hb3 HT2 HB2 HF2
  generalize hA : atAns z0 i = A
  have HA : Hid (atAns z0 i = A) := hA
  clear hA
  obtain ⟨⟨p, q⟩, o⟩ := A
  dsimp only
  obtain ⟨x4, hx4⟩ : ∃ x4, x3.alloc (.cells #[.string p, .string q] 38) = x4 := ⟨_, rfl⟩
  have HT4 : Hid (Box2 x4 w.heap.size 24 (.int .i64 m) (.slice a0 len0 cap0)) := by show Box2 _ _ _ _ _; rw [← hx4]; exact HT3.out.alloc _
  have HW4 : Hid (Box2 x4 x3.heap.size 38 (.string p) (.string q)) := by show Box2 _ _ _ _ _; rw [← hx4]; exact Box2.new _ _ _ _
  have HB4 : Hid (Below w.heap.size w x4) := by show Below _ _ _; rw [← hx4]; exact HB3.out.alloc HB3.out.size _
  obtain ⟨c0, c1, _, _⟩ := HT4.out.cells
  have hlt3 : w.heap.size < x3.heap.size := HT3.out.lt
  go_wp2_with fail
  refine (toTable_any m a0 len0 cap0 z0 x4 (HX.out.below HB4.out) hle).mono ?_
  rintro e x5 ⟨g5, rfl, hg5, hf5, hb5⟩
  have HT5 : Hid (Box2 x5 w.heap.size 24 (.int .i64 m) (.slice a0 len0 cap0)) := HT4.out.stays hb5
  have HW5 : Hid (Box2 x5 x3.heap.size 38 (.string p) (.string q)) := HW4.out.stays hb5
  have HB5 : Hid (Below w.heap.size w x5) := HB4.out.trans (hb5.mono HB4.out.size)
  have HF5 : Hid (Flds x5 (some ⟨g5, 0, none⟩) len0 z0) := hf5
  clear hb5 hf5 hg5 HT3 HB3 HT4 HW4 HB4 c0 c1 hx4
  obtain ⟨x6, hx6⟩ : ∃ x6, x5.alloc (.cells #[.int .i64 m, .slice (some ⟨g5, 0, none⟩) len0 len0] 29) = x6 := ⟨_, rfl⟩
  have hb56 : Below x5.heap.size x5 x6 := by rw [← hx6]; exact (Below.refl _ _).alloc (Nat.le_refl _) _
  have HT6 : Hid (Box2 x6 w.heap.size 24 (.int .i64 m) (.slice a0 len0 cap0)) := HT5.out.stays hb56
  have HW6 : Hid (Box2 x6 x3.heap.size 38 (.string p) (.string q)) := HW5.out.stays hb56
  have HX6 : Hid (Box2 x6 x5.heap.size 29 (.int .i64 m) (.slice (some ⟨g5, 0, none⟩) len0 len0)) := by show Box2 _ _ _ _ _; rw [← hx6]; exact Box2.new _ _ _ _
  have HB6 : Hid (Below w.heap.size w x6) := HB5.out.trans (hb56.mono HB5.out.size)
  have HF6 : Hid (Flds x6 (some ⟨g5, 0, none⟩) len0 z0) := HF5.out.below hb56
  obtain ⟨c0, c1, _, _⟩ := HX6.out.cells
  clear hb56 HT5 HW5 HB5 HF5
  go_wp2_with fail
  refine (HI'.out m i (some ⟨g5, 0, none⟩) len0 len0 z0 x6 HF6.out hle HI2.out).mono ?_
  rintro e x7 ⟨rfl, hb7⟩
  rw [HA.out]
  dsimp only
  have HT7 : Hid (Box2 x7 w.heap.size 24 (.int .i64 m) (.slice a0 len0 cap0)) := HT6.out.stays hb7
  have HW7 : Hid (Box2 x7 x3.heap.size 38 (.string p) (.string q)) := HW6.out.stays hb7
  have HX7 : Hid (Box2 x7 x5.heap.size 29 (.int .i64 m) (.slice (some ⟨g5, 0, none⟩) len0 len0)) := HX6.out.stays hb7
  have HB7 : Hid (Below w.heap.size w x7) := HB6.out.trans (hb7.mono HB6.out.size)
  have HF7 : Hid (Flds x7 (some ⟨g5, 0, none⟩) len0 z0) := HF6.out.below hb7
  clear hb7 HT6 HW6 HX6 HB6 HF6 c0 c1 hx6
  obtain ⟨x8, hx8⟩ : ∃ x8, x7.alloc (.cells #[.string p, .string q] 38) = x8 := ⟨_, rfl⟩
  have hb78 : Below x7.heap.size x7 x8 := by rw [← hx8]; exact (Below.refl _ _).alloc (Nat.le_refl _) _
  have HT8 : Hid (Box2 x8 w.heap.size 24 (.int .i64 m) (.slice a0 len0 cap0)) := HT7.out.stays hb78
  have HX8 : Hid (Box2 x8 x5.heap.size 29 (.int .i64 m) (.slice (some ⟨g5, 0, none⟩) len0 len0)) := HX7.out.stays hb78
  have HB8 : Hid (Below w.heap.size w x8) := HB7.out.trans (hb78.mono HB7.out.size)
  have HF8 : Hid (Flds x8 (some ⟨g5, 0, none⟩) len0 z0) := HF7.out.below hb78
  obtain ⟨c0, c1, _, _⟩ := (HW7.out.stays hb78).cells
  have hg8 : Box2 x8 x7.heap.size 38 (.string p) (.string q) := by rw [← hx8]; exact Box2.new _ _ _ _
  obtain ⟨c2, c3, _, _⟩ := hg8.cells
  clear hb78 HT7 HW7 HX7 HB7 HF7 hg8
  have hoo : (o != o) = false := by simp
  go_wp2_with fail
  refine (eqField_same p q x8).mono ?_
  rintro e x9 ⟨rfl, hb9⟩
  have HT9 : Hid (Box2 x9 w.heap.size 24 (.int .i64 m) (.slice a0 len0 cap0)) := HT8.out.stays hb9
  have HX9 : Hid (Box2 x9 x5.heap.size 29 (.int .i64 m) (.slice (some ⟨g5, 0, none⟩) len0 len0)) := HX8.out.stays hb9
  have HB9 : Hid (Below w.heap.size w x9) := HB8.out.trans (hb9.mono HB8.out.size)
  have HF9 : Hid (Flds x9 (some ⟨g5, 0, none⟩) len0 z0) := HF8.out.below hb9
  clear hb9 HT8 HX8 HB8 HF8 c0 c1 c2 c3 hx8
  have HT : Hid (∀ W : World, Below x9.heap.size x9 W → Flds W a0 len0 z0 ∧ Flds W (some ⟨g5, 0, none⟩) len0 z0 ∧ Below w.heap.size w W ∧ Box2 W x5.heap.size 29 (.int .i64 m) (.slice (some ⟨g5, 0, none⟩) len0 len0)) := fun W hW =>
    have hb := HB9.out.trans (hW.mono HB9.out.size)
    ⟨HX.out.below hb, HF9.out.below hW, hb, HX9.out.stays hW⟩
  obtain ⟨c0, c1, _, _⟩ := HT9.out.cells
  obtain ⟨c2, c3, _, _⟩ := HX9.out.cells
  go_wp2_with fail
  go_region_with (first
    | (go_at_call 11; refine (toTable_any m a0 len0 cap0 z0 _ (HT.out _ (Below.refl _ _).drew).1 hle).mono ?_; rintro e y1 ⟨g6, rfl, hg6, hf6, hb6⟩; have hb6' : Below x9.heap.size x9 y1 := (Below.refl x9.heap.size x9).drew.trans (hb6.mono (Nat.le_refl _)); obtain ⟨k0, k1, _, _⟩ := (HT.out _ hb6').2.2.2.cells)
    | (go_at_call 13; refine (eqTable_same m _ _ len0 len0 len0 z0 _ (HT.out _ hb6').2.1 hf6 (by omega)).mono ?_; rintro e y2 ⟨rfl, hb7⟩))
  all_goals
    have hb6w := (HT.out _ hb6').2.2.1
    have HB10 : Hid (Below w.heap.size w y2) := by
      show Below _ _ _
      first
        | exact hb6w.trans (hb7.mono hb6w.size)
        | exact hb6w.drew.trans (hb7.mono hb6w.size)
    clear hb7 hb6 hb6' hb6w hf6 hg6 k0 k1
    go_wp2
    go_ret
    exact ⟨rfl, HB10.out⟩

end Go.Proofs.Ytnenphedodfnnak
