/- The law that SizeOf answers as the specification's. -/
import Derived.Test.YtnenphedodfnnakTabSize
import Derived.Test.YtnenphedodfnnakTimSize
import Derived.Test.YtnenphedodfnnakTabTo
import Derived.Test.YtnenphedodfnnakTabEq
import Derived.Deep.RegionWith
namespace Go.Proofs.Ytnenphedodfnnak
open Go.RowKit
set_option linter.unusedVariables false

set_option maxHeartbeats 1600000 in
theorem sizeWalk (m : Int) (a0 : Option Addr) (len0 cap0 : Nat) (z0 : List Fld) (w : World) (hl0 : len0 ≤ maxLen) (w0 : Flds w a0 len0 z0) :
    Calls Try.prog 3 #[.agg #[.int .i64 m, .slice a0 len0 cap0]] w fun e w' => e = .returned (.bool true) ∧ Below w.heap.size w w' := by
  have HX : Hid (Flds w a0 len0 z0) := w0
  clear w0
  go_enter Try.func3, Try.ntmps3
  go_wp2_with fail
  have hba : Below w.heap.size w (w.alloc (Obj.cells #[Value.int IntKind.i64 m, Value.slice a0 len0 cap0] 24)) := (Below.refl _ _).alloc (Nat.le_refl _) _
  have HB0 : Hid (Below w.heap.size w (w.alloc (Obj.cells #[Value.int IntKind.i64 m, Value.slice a0 len0 cap0] 24))) := hba
  clear hba
  refine (szTable_any m a0 len0 cap0 z0 1048576 _ (HX.out.below HB0.out) (by omega) (by omega) hl0).mono ?_
  rintro e x1 ⟨⟨v, rfl, hv1, hv2⟩, hb1⟩
  rw [show (w.alloc (Obj.cells #[Value.int IntKind.i64 m, Value.slice a0 len0 cap0] 24)).heap.size = w.heap.size + 1 by simp] at hb1
  have c0 : x1.cell? ⟨w.heap.size, 0, none⟩ = some (.int .i64 m) := (hb1.cell (p := ⟨_, _, none⟩) (by dsimp only; omega)).trans (by simp [go_sem])
  have c1 : x1.cell? ⟨w.heap.size, 1, none⟩ = some (.slice a0 len0 cap0) := (hb1.cell (p := ⟨_, _, none⟩) (by dsimp only; omega)).trans (by simp [go_sem])
  have HB1 : Hid (Below w.heap.size w x1) := HB0.out.trans (hb1.mono (by omega))
  have hz1 : w.heap.size < x1.heap.size := Nat.lt_of_lt_of_le (by simp) hb1.size
  have HV : Hid (0 ≤ v → (len0 + fldBytes z0 : Int) ≤ 1048576) := fun h => by have := hv2 h; omega
  clear hb1 hv2 HB0
  by_cases h : v < 0
  · go_wp2
    go_ret
    exact ⟨rfl, HB1.out⟩
  have hsz : len0 + fldBytes z0 ≤ 1048576 := by have := HV.out (by omega); omega
  go_wp2_with fail
  refine (toTable_any m a0 len0 cap0 z0 _ (HX.out.below HB1.out) (by omega)).mono ?_
  rintro e x2 ⟨g2, rfl, hg2, hf2, hb2⟩
  have d0 : x2.cell? ⟨w.heap.size, 0, none⟩ = some (.int .i64 m) := (hb2.cell (p := ⟨_, _, none⟩) hz1).trans c0
  have d1 : x2.cell? ⟨w.heap.size, 1, none⟩ = some (.slice a0 len0 cap0) := (hb2.cell (p := ⟨_, _, none⟩) hz1).trans c1
  have HB2 : Hid (Below w.heap.size w x2) := HB1.out.trans (hb2.mono HB1.out.size)
  have hz2 : w.heap.size < x2.heap.size := Nat.lt_of_lt_of_le hz1 hb2.size
  have HF2 : Hid (Flds x2 (some ⟨g2, 0, none⟩) len0 z0) := hf2
  clear hb2 hf2 c0 c1 hg2
  go_wp2_with fail
  refine (specSize_any m _ len0 len0 z0 _ HF2.out (by omega)).mono ?_
  rintro e x3 ⟨rfl, hb3⟩
  have c0 : x3.cell? ⟨w.heap.size, 0, none⟩ = some (.int .i64 m) := (hb3.cell (p := ⟨_, _, none⟩) hz2).trans d0
  have c1 : x3.cell? ⟨w.heap.size, 1, none⟩ = some (.slice a0 len0 cap0) := (hb3.cell (p := ⟨_, _, none⟩) hz2).trans d1
  have HB3 : Hid (Below w.heap.size w x3) := HB2.out.trans (hb3.mono HB2.out.size)
  have hz3 : w.heap.size < x3.heap.size := Nat.lt_of_lt_of_le hz2 hb3.size
  clear hb3 d0 d1
  go_wp2_with fail
  refine (toTable_any m a0 len0 cap0 z0 _ (HX.out.below HB3.out) (by omega)).mono ?_
  rintro e x4 ⟨g4, rfl, hg4, hf4, hb4⟩
  have d0 : x4.cell? ⟨w.heap.size, 0, none⟩ = some (.int .i64 m) := (hb4.cell (p := ⟨_, _, none⟩) hz3).trans c0
  have d1 : x4.cell? ⟨w.heap.size, 1, none⟩ = some (.slice a0 len0 cap0) := (hb4.cell (p := ⟨_, _, none⟩) hz3).trans c1
  have HB4 : Hid (Below w.heap.size w x4) := HB3.out.trans (hb4.mono HB3.out.size)
  have hz4 : w.heap.size < x4.heap.size := Nat.lt_of_lt_of_le hz3 hb4.size
  have HF4 : Hid (Flds x4 (some ⟨g4, 0, none⟩) len0 z0) := hf4
  clear hb4 hf4 c0 c1 hg4
  go_wp2_with fail
  have hbx : Below x4.heap.size x4 (x4.alloc (Obj.cells #[Value.int IntKind.i64 m, Value.slice (some { block := g4, off := 0 }) len0 len0] 29)) := (Below.refl _ _).alloc (Nat.le_refl _) _
  have HBX : Hid (Below x4.heap.size x4 (x4.alloc (Obj.cells #[Value.int IntKind.i64 m, Value.slice (some { block := g4, off := 0 }) len0 len0] 29))) := hbx
  clear hbx
  refine (implSize_any m _ len0 len0 z0 _ (HF4.out.below HBX.out) (by omega)).mono ?_
  rintro e x5 ⟨rfl, hb5⟩
  rw [show (x4.alloc (Obj.cells #[Value.int IntKind.i64 m, Value.slice (some { block := g4, off := 0 }) len0 len0] 29)).heap.size = x4.heap.size + 1 by simp] at hb5
  have hx5 : Below x4.heap.size x4 x5 := HBX.out.trans (hb5.mono (by omega))
  have c0 : x5.cell? ⟨w.heap.size, 0, none⟩ = some (.int .i64 m) := (hx5.cell (p := ⟨_, _, none⟩) hz4).trans d0
  have c1 : x5.cell? ⟨w.heap.size, 1, none⟩ = some (.slice a0 len0 cap0) := (hx5.cell (p := ⟨_, _, none⟩) hz4).trans d1
  have e0 : x5.cell? ⟨x4.heap.size, 0, none⟩ = some (.int .i64 m) := (hb5.cell (p := ⟨_, _, none⟩) (by dsimp only; omega)).trans (by simp [go_sem])
  have e1 : x5.cell? ⟨x4.heap.size, 1, none⟩ = some (.slice (some ⟨g4, 0, none⟩) len0 len0) := (hb5.cell (p := ⟨_, _, none⟩) (by dsimp only; omega)).trans (by simp [go_sem])
  have hz5 : x4.heap.size < x5.heap.size := Nat.lt_of_lt_of_le (by simp) hb5.size
  have HB5 : Hid (Below w.heap.size w x5) := HB4.out.trans (hx5.mono HB4.out.size)
  have HF5 : Hid (Flds x5 (some ⟨g4, 0, none⟩) len0 z0) := HF4.out.below hx5
  generalize hq : x4.heap.size = q at e0 e1 hz5 ⊢
  have hne : (32 * (len0 : Int) + (fldBytes z0 : Int) != 32 * (len0 : Int) + (fldBytes z0 : Int)) = false := by simp
  clear hb5 hx5 d0 d1 HBX
  have HT : Hid (∀ W : World, Below x5.heap.size x5 W → Flds W a0 len0 z0 ∧ Flds W (some ⟨g4, 0, none⟩) len0 z0 ∧ Below w.heap.size w W ∧ W.cell? ⟨q, 0, none⟩ = some (.int .i64 m) ∧ W.cell? ⟨q, 1, none⟩ = some (.slice (some ⟨g4, 0, none⟩) len0 len0)) := fun W hW =>
    have hb := HB5.out.trans (hW.mono HB5.out.size)
    ⟨HX.out.below hb, HF5.out.below hW, hb, (hW.cell (p := ⟨_, _, none⟩) hz5).trans e0, (hW.cell (p := ⟨_, _, none⟩) hz5).trans e1⟩
  go_wp2_with fail
  go_region_with (first
    | (go_at_call 11; refine (toTable_any m a0 len0 cap0 z0 _ (HT.out _ (Below.refl _ _).drew).1 (by omega)).mono ?_; rintro e x6 ⟨g6, rfl, hg6, hf6, hb6⟩; have hb6' := (Below.refl x5.heap.size x5).drew.trans (hb6.mono (Nat.le_refl _)); have k0 := (HT.out _ hb6').2.2.2.1; have k1 := (HT.out _ hb6').2.2.2.2)
    | (go_at_call 13; refine (eqTable_same m _ _ len0 len0 len0 z0 _ (HT.out _ hb6').2.1 hf6 (by omega)).mono ?_; rintro e x7 ⟨rfl, hb7⟩))
  all_goals
    have hb6w := (HT.out _ hb6').2.2.1
    have HB7 : Hid (Below w.heap.size w x7) := by
      show Below _ _ _
      first
        | exact hb6w.trans (hb7.mono hb6w.size)
        | exact hb6w.drew.trans (hb7.mono hb6w.size)
    clear hb7 hb6 hb6' hb6w hf6 hg6 k0 k1
    go_wp2
    go_ret
    exact ⟨rfl, HB7.out⟩

end Go.Proofs.Ytnenphedodfnnak
