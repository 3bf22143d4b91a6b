/- The walk of the law that RoomOf answers as the specification's; under a contract of the program's own function. -/
import Derived.Test.YtkicfiacnpifkapFlowTo
import Derived.Test.YtkicfiacnpifkapFlowRoomS
import Derived.Deep.RegionWith
namespace Go.Proofs.Ytkicfiacnpifkap
open Go.RowKit
set_option linter.unusedVariables false

set_option maxRecDepth 10000 in
set_option maxHeartbeats 1600000 in
theorem flowRoomWalk (s : Int) (en : Int) (a0 : Option Addr) (len0 cap0 : Nat) (zs : List Lane) (id : Int) (w : World) (hl : len0 ≤ maxLen) (hs : Lanes w a0 len0 zs)
    (HIm : ∀ (a : Option Addr) (W : World), len0 ≤ 1048576 → Lanes W a len0 zs → Calls Try.prog 23 #[.agg #[.int .i64 s, .int .i64 en, .slice a len0 len0], .int .i64 id] W fun e w' => e = .returned (.int .i64 (roomN s zs id)) ∧ Below W.heap.size W w') :
    Calls Try.prog 7 #[.agg #[.int .i64 s, .int .i64 en, .slice a0 len0 cap0], .int .i64 id] w fun e w' => e = .returned (.bool true) ∧ Below w.heap.size w w' := by
  have HS : Hid (Lanes w a0 len0 zs) := hs
  clear hs
  have HB0 : Hid (Below w.heap.size w (w.alloc (.cells #[.int .i64 s, .int .i64 en, .slice a0 len0 cap0] 24))) := (Below.refl _ _).alloc (Nat.le_refl _) _
  go_enter Try.func7, Try.ntmps7
  go_wp2_with fail
  refine (szFlow_any s en a0 len0 cap0 1048576 _ (by omega) (by omega) hl).mono ?_
  rintro e x0 ⟨rfl, hb0⟩
  have HB1 : Hid (Below w.heap.size w x0) := HB0.out.trans (hb0.mono HB0.out.size)
  have HF1 : Hid (Box3 x0 w.heap.size 24 (.int .i64 s) (.int .i64 en) (.slice a0 len0 cap0)) := (Box3.new _ _ _ _ _).stays hb0
  clear hb0 HB0
  by_cases hbig : (1048576 : Int) - len0 < 0
  · rw [if_pos hbig]
    go_wp2_with fail
    go_ret
    exact ⟨rfl, HB1.out⟩
  rw [if_neg hbig]
  have hle : len0 ≤ 1048576 := by omega
  have hnn : ¬ (1048576 : Int) - (len0 : Int) < 0 := hbig
  generalize (1048576 : Int) - (len0 : Int) = left0 at *
  clear hbig
  have HI : Hid (∀ (a : Option Addr) (W : World), Lanes W a len0 zs → Calls Try.prog 23 #[.agg #[.int .i64 s, .int .i64 en, .slice a len0 len0], .int .i64 id] W fun e w' => e = .returned (.int .i64 (roomN s zs id)) ∧ Below W.heap.size W w') := fun a W h => HIm a W hle h
  clear HIm
  obtain ⟨a0c, a1c, a2c⟩ := HF1.out.cells
  go_wp2_with fail
  refine (toFlow_any s en a0 len0 cap0 zs x0 (HS.out.below HB1.out) hle).mono ?_
  rintro e x1 ⟨g1, rfl, _, ho1, hb1⟩
  have HB2 : Hid (Below w.heap.size w x1) := HB1.out.trans (hb1.mono HB1.out.size)
  have HF2 : Hid (Box3 x1 w.heap.size 24 (.int .i64 s) (.int .i64 en) (.slice a0 len0 cap0)) := HF1.out.stays hb1
  clear hb1 HF1 HB1 a0c a1c a2c
  go_wp2_with fail
  refine (specRoom_any s en _ len0 len0 zs id x1 ho1.lanes (by omega)).mono ?_
  rintro e x2 ⟨rfl, hb2⟩
  clear ho1
  have HB3 : Hid (Below w.heap.size w x2) := HB2.out.trans (hb2.mono HB2.out.size)
  have HF3 : Hid (Box3 x2 w.heap.size 24 (.int .i64 s) (.int .i64 en) (.slice a0 len0 cap0)) := HF2.out.stays hb2
  clear hb2 HF2 HB2
  obtain ⟨r, hr⟩ : ∃ r, roomN s zs id = r := ⟨_, rfl⟩
  have HR : Hid (roomN s zs id = r) := hr
  rw [hr]
  clear hr
  obtain ⟨a0c, a1c, a2c⟩ := HF3.out.cells
  go_wp2_with fail
  refine (toFlow_any s en a0 len0 cap0 zs x2 (HS.out.below HB3.out) hle).mono ?_
  rintro e x3 ⟨g3, rfl, _, ho3, hb3⟩
  have HB4 : Hid (Below w.heap.size w (x3.alloc (.cells #[.int .i64 s, .int .i64 en, .slice (some ⟨g3, 0, none⟩) len0 len0] 29))) := (HB3.out.trans (hb3.mono HB3.out.size)).alloc (HB3.out.trans (hb3.mono HB3.out.size)).size _
  have HF4 : Hid (Box3 (x3.alloc (.cells #[.int .i64 s, .int .i64 en, .slice (some ⟨g3, 0, none⟩) len0 len0] 29)) w.heap.size 24 (.int .i64 s) (.int .i64 en) (.slice a0 len0 cap0)) := (HF3.out.stays hb3).alloc _
  have HX4 : Hid (Box3 (x3.alloc (.cells #[.int .i64 s, .int .i64 en, .slice (some ⟨g3, 0, none⟩) len0 len0] 29)) x3.heap.size 29 (.int .i64 s) (.int .i64 en) (.slice (some ⟨g3, 0, none⟩) len0 len0)) := Box3.new _ _ _ _ _
  have HO4 : Hid (OwnL (x3.alloc (.cells #[.int .i64 s, .int .i64 en, .slice (some ⟨g3, 0, none⟩) len0 len0] 29)) x2.heap.size (some ⟨g3, 0, none⟩) len0 len0 zs) := ho3.below ((Below.refl _ _).alloc (Nat.le_refl _) _)
  clear hb3 ho3 HF3 HB3 a0c a1c a2c
  go_wp2_with fail
  obtain ⟨x4, hx4⟩ : ∃ x4, x3.alloc (.cells #[.int .i64 s, .int .i64 en, .slice (some ⟨g3, 0, none⟩) len0 len0] 29) = x4 := ⟨_, rfl⟩
  rw [hx4] at HB4 HF4 HX4 HO4 ⊢
  clear hx4
  generalize x3.heap.size = bx at *
  refine (HI.out _ x4 HO4.out.lanes).mono ?_
  rintro e x5 ⟨rfl, hb5⟩
  rw [HR.out]
  have HU : Hid (∀ W, Below x5.heap.size x5 W → Below w.heap.size w W ∧ Box3 W w.heap.size 24 (.int .i64 s) (.int .i64 en) (.slice a0 len0 cap0) ∧ Box3 W bx 29 (.int .i64 s) (.int .i64 en) (.slice (some ⟨g3, 0, none⟩) len0 len0) ∧ Lanes W (some ⟨g3, 0, none⟩) len0 zs ∧ Lanes W a0 len0 zs) := by
    intro W hW
    have hb : Below x4.heap.size x4 W := hb5.trans (hW.mono hb5.size)
    have hw : Below w.heap.size w W := HB4.out.trans (hb.mono HB4.out.size)
    exact ⟨hw, HF4.out.stays hb, HX4.out.stays hb, (HO4.out.below hb).lanes, HS.out.below hw⟩
  clear hb5 HB4 HF4 HX4 HO4
  have hne : (r != r) = false := by simp
  obtain ⟨c0, c1, c2⟩ := (HU.out x5 (Below.refl _ _)).2.1.cells
  obtain ⟨d0, d1, d2⟩ := (HU.out x5 (Below.refl _ _)).2.2.1.cells
  go_wp2_with fail
  go_region_with (first
      | (go_at_call 11; refine (toFlow_any s en a0 len0 cap0 zs _ (HU.out _ (Below.refl _ _).drew).2.2.2.2 hle).mono ?_; rintro e y1 ⟨g6, rfl, hg6, ho6, hb6⟩; have hb6' : Below x5.heap.size x5 y1 := (Below.refl x5.heap.size x5).drew.trans (hb6.mono (Nat.le_refl _)); obtain ⟨k0, k1, k2⟩ := (HU.out _ hb6').2.2.1.cells)
      | (go_at_call 13; refine (eqFlow_same s en _ _ len0 len0 len0 zs _ (HU.out _ hb6').2.2.2.1 ho6.lanes (by omega)).mono ?_; rintro e y2 ⟨rfl, hb7⟩))
  all_goals
    have HB9 : Hid (Below w.heap.size w y2) := by
      show Below _ _ _
      have h1 := (HU.out _ hb6').1
      first
        | exact h1.trans (hb7.mono h1.size)
        | exact h1.drew.trans (hb7.mono h1.size)
    clear hb7 hb6 hb6' ho6 hg6 k0 k1 k2 c0 c1 c2 d0 d1 d2 HU
    go_wp2_with fail
    go_ret
    exact ⟨rfl, HB9.out⟩

end Go.Proofs.Ytkicfiacnpifkap
