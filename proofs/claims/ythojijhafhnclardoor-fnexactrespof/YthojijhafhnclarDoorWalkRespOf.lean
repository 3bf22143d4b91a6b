/- The walk of RespOf's law. -/
import Derived.Test.YthojijhafhnclarDoorRespOfI
import Derived.Test.YthojijhafhnclarDoorRespOfS
import Derived.Test.YthojijhafhnclarDoorRespEq
import Derived.Test.YthojijhafhnclarDoorFldEq
import Derived.Test.YthojijhafhnclarDoorFldSz
import Derived.Test.YthojijhafhnclarDoorFldTo
import Derived.Deep.CutBlock
namespace Go.Proofs.YthojijhafhnclarDoor
open Go.RowKit
set_option linter.unusedVariables false

theorem fldBytes_mem : ∀ (xs : List Fld) (f : Fld), f ∈ xs → f.2.size ≤ fldBytes xs
  | [], f, h => by cases h
  | g :: r, f, h => by
    have e : fldBytes (g :: r) = g.1.size + g.2.size + fldBytes r := by simp [fldBytes]
    rw [e]
    rcases List.mem_cons.1 h with rfl | h
    · omega
    · have := fldBytes_mem r f h
      omega

set_option maxRecDepth 10000 in
set_option maxHeartbeats 1600000 in
theorem respOfLaw (a : Option Addr) (len cap : Nat) (xs : List Fld) (w : World) (hl : len ≤ maxLen) (hx : Flds w a len xs) (hst : StdT w) :
    Calls Tryd.prog 4 #[.slice a len cap] w fun e w' => e = .returned (.bool true) ∧ Below w.heap.size w w' := by
  have HX : Hid (Flds w a len xs) := hx
  have HS : Hid (StdT w) := hst
  clear hx hst
  go_enter Tryd.func4, Tryd.ntmps4
  go_wp2_with fail
  refine (szFieldS_any a len cap xs 1048576 w HX.out (by omega) (by omega) hl).mono ?_
  rintro e x1 ⟨⟨v, rfl, hv1, hv2⟩, hb1⟩
  have HB1 : Hid (Below w.heap.size w x1) := hb1
  clear hb1
  by_cases hneg : v < 0
  · go_wp2_with fail
    go_ret
    exact ⟨rfl, HB1.out⟩
  have hsm := hv2 (by omega)
  have hl2 : len ≤ 1048576 := by omega
  have HVb : Hid (∀ f ∈ xs, f.2.size ≤ 281474976710656) := fun f hf => by have := fldBytes_mem xs f hf; omega
  clear hv1 hv2 hsm hl
  go_wp2_with fail
  refine (toFieldS_own a len cap xs _ (HX.out.below HB1.out) hl2).mono ?_
  rintro e x2 ⟨rfl, _, hf2, hb2⟩
  have HF2 : Hid (Flds x2 (some ⟨x1.heap.size, 0, none⟩) len xs) := hf2
  have HB2 : Hid (Below w.heap.size w x2) := HB1.out.trans (hb2.mono HB1.out.size)
  clear hb2 hf2 HB1
  generalize x1.heap.size = p1 at *
  obtain ⟨R, hR⟩ : ∃ R, respOfR xs = R := ⟨_, rfl⟩
  have HSp : Hid (∀ (a : Option Addr) (W : World), Flds W a len xs → Calls Tryd.prog 12 #[.slice a len len] W fun e w' => e = .returned (.tuple #[.agg #[.int .i64 R.1.1, .int .i64 R.1.2], .bool R.2]) ∧ Below W.heap.size W w') := fun a W h => by
    have := specRespOf_any a len len xs W h (by omega)
    rw [hR] at this
    exact this
  have HIm : Hid (∀ (a : Option Addr) (W : World), Below w.heap.size w W → Flds W a len xs → Calls Tryd.prog 14 #[.slice a len len] W fun e w' => e = .returned (.tuple #[.agg #[.int .i64 R.1.1, .int .i64 R.1.2], .bool R.2]) ∧ Below W.heap.size W w') := fun a W hW h => by
    have := implRespOf_any a len len xs W h (by omega) HVb.out (HS.out.below hW)
    rw [hR] at this
    exact this
  clear hR HS HVb
  obtain ⟨⟨ro, rn⟩, rc⟩ := R
  dsimp only at HSp HIm
  have hne : (rc != rc) = false := by simp
  have heq : (rc == rc) = true := by simp
  go_wp2_with fail
  refine (HSp.out _ x2 HF2.out).mono ?_
  rintro e x3 ⟨rfl, hb3⟩
  have HB3 : Hid (Below w.heap.size w x3) := HB2.out.trans (hb3.mono HB2.out.size)
  clear hb3 HF2 HB2
  have HW3 : Hid (Box2R (x3.alloc (.cells #[.int .i64 ro, .int .i64 rn] 26)) x3.heap.size 26 (.int .i64 ro) (.int .i64 rn)) := Box2R.new _ _ _ _
  have HB4 : Hid (Below w.heap.size w (x3.alloc (.cells #[.int .i64 ro, .int .i64 rn] 26))) := HB3.out.alloc HB3.out.size _
  go_wp2_with fail
  obtain ⟨x4, hx4⟩ : ∃ x4, x3.alloc (.cells #[.int .i64 ro, .int .i64 rn] 26) = x4 := ⟨_, rfl⟩
  rw [hx4] at HW3 HB4 ⊢
  clear hx4 HB3
  generalize x3.heap.size = p3 at *
  refine (toFieldS_own a len cap xs _ (HX.out.below HB4.out) hl2).mono ?_
  rintro e x5 ⟨rfl, _, hf5, hb5⟩
  have HF5 : Hid (Flds x5 (some ⟨x4.heap.size, 0, none⟩) len xs) := hf5
  have HB5 : Hid (Below w.heap.size w x5) := HB4.out.trans (hb5.mono HB4.out.size)
  have HW5 := (show Hid (Box2R x5 p3 26 (.int .i64 ro) (.int .i64 rn)) from HW3.out.stays hb5)
  clear hb5 hf5 HB4 HW3
  generalize x4.heap.size = p4 at *
  go_wp2_with fail
  refine (HIm.out _ x5 HB5.out HF5.out).mono ?_
  rintro e x6 ⟨rfl, hb6⟩
  have HF6 : Hid (Flds x6 (some ⟨p4, 0, none⟩) len xs) := HF5.out.below hb6
  have HB6 : Hid (Below w.heap.size w x6) := HB5.out.trans (hb6.mono HB5.out.size)
  have HW6 := (show Hid (Box2R x6 p3 26 (.int .i64 ro) (.int .i64 rn)) from HW5.out.stays hb6)
  clear hb6 HF5 HB5 HW5
  have HG7 : Hid (Box2R (x6.alloc (.cells #[.int .i64 ro, .int .i64 rn] 26)) x6.heap.size 26 (.int .i64 ro) (.int .i64 rn)) := Box2R.new _ _ _ _
  have HW7 : Hid (Box2R (x6.alloc (.cells #[.int .i64 ro, .int .i64 rn] 26)) p3 26 (.int .i64 ro) (.int .i64 rn)) := HW6.out.alloc _
  have HB7 : Hid (Below w.heap.size w (x6.alloc (.cells #[.int .i64 ro, .int .i64 rn] 26))) := HB6.out.alloc HB6.out.size _
  have HF7 : Hid (Flds (x6.alloc (.cells #[.int .i64 ro, .int .i64 rn] 26)) (some ⟨p4, 0, none⟩) len xs) := HF6.out.below ((Below.refl _ _).alloc (Nat.le_refl _) _)
  obtain ⟨g0, g1⟩ := HG7.out.cells
  obtain ⟨c0, c1⟩ := HW7.out.cells
  go_wp2_with fail
  obtain ⟨x7, hx7⟩ : ∃ x7, x6.alloc (.cells #[.int .i64 ro, .int .i64 rn] 26) = x7 := ⟨_, rfl⟩
  rw [hx7] at HG7 HW7 HB7 HF7 ⊢
  clear hx7 HF6 HB6 HW6 g0 g1 c0 c1
  generalize x6.heap.size = p6 at *
  refine (eqResp_same ro rn x7).mono ?_
  rintro e x8 ⟨rfl, hb8⟩
  have HB8 : Hid (Below w.heap.size w x8) := HB7.out.trans (hb8.mono HB7.out.size)
  have HF8 : Hid (Flds x8 (some ⟨p4, 0, none⟩) len xs) := HF7.out.below hb8
  clear hb8 HB7 HF7 HG7 HW7
  go_wp2_with fail
  refine (toFieldS_own a len cap xs _ (HX.out.below HB8.out) hl2).mono ?_
  rintro e x9 ⟨rfl, _, hf9, hb9⟩
  have HF9 : Hid (Flds x9 (some ⟨x8.heap.size, 0, none⟩) len xs) := hf9
  have HG9 : Hid (Flds x9 (some ⟨p4, 0, none⟩) len xs) := HF8.out.below hb9
  have HB9 : Hid (Below w.heap.size w x9) := HB8.out.trans (hb9.mono HB8.out.size)
  clear hb9 hf9 HB8 HF8
  go_wp2_with fail
  refine (eqFieldS_same _ _ _ _ _ _ _ HG9.out HF9.out (by omega)).mono ?_
  rintro e x10 ⟨rfl, hb10⟩
  have HB10 : Hid (Below w.heap.size w x10) := HB9.out.trans (hb10.mono HB9.out.size)
  clear hb10
  go_wp2_with fail
  go_ret
  exact ⟨rfl, HB10.out⟩

end Go.Proofs.YthojijhafhnclarDoor
