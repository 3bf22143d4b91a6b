/- The walk of the law that TopEpoch answers as the specification's; under a contract of the program's own function. -/
import Derived.Test.YtenkpgnkkkgdmatDoorM07
import Derived.Test.YtenkpgnkkkgdmatDoorT01
import Derived.Deep.RegionWith
namespace Go.Proofs.YtenkpgnkkkgdmatDoor
open Go.RowKit
set_option linter.unusedVariables false

set_option maxRecDepth 10000 in
set_option maxHeartbeats 1600000 in
theorem topWalk (a0 : Option Addr) (n ca : Nat) (xs : List ByteArray) (a0' : Option Addr) (n' ca' : Nat) (ys : List ByteArray) (w : World) (hl : n ≤ maxLen) (hl' : n' ≤ maxLen) (h1 : Strs w a0 n xs) (h2 : Strs w a0' n' ys)
    (HIm : ∀ (a a' : Option Addr) (W : World), Below w.heap.size w W → n ≤ 1048576 → n' ≤ 1048576 → (∀ x ∈ xs, x.size ≤ 1048576) → Strs W a n xs → Strs W a' n' ys → Calls Tryd.prog 9 #[.agg #[.slice a n n, .slice a' n' n']] W fun e w' => e = .returned (.int .i64 (topE xs)) ∧ Below W.heap.size W w') :
    Calls Tryd.prog 3 #[.agg #[.slice a0 n ca, .slice a0' n' ca']] w fun e w' => e = .returned (.bool true) ∧ Below w.heap.size w w' := by
  have HS : Hid (∀ W, Below w.heap.size w W → Strs W a0 n xs ∧ Strs W a0' n' ys) := fun W h => ⟨h1.below h, h2.below h⟩
  clear h1 h2
  have HB0 : Hid (Below w.heap.size w (w.alloc (.cells #[.slice a0 n ca, .slice a0' n' ca'] 24))) := (Below.refl _ _).alloc (Nat.le_refl _) _
  go_enter Tryd.func3, Tryd.ntmps3
  go_wp2_with fail
  refine (szDisk_any a0 n ca xs a0' n' ca' ys 1048576 _ (HS.out _ HB0.out).1 (HS.out _ HB0.out).2 (by omega) (by omega) hl hl').mono ?_
  rintro e x0 ⟨⟨left0, rfl, hv1, hv⟩, hb0⟩
  have HB1 : Hid (Below w.heap.size w x0) := HB0.out.trans (hb0.mono HB0.out.size)
  have HF1 : Hid (Box2R x0 w.heap.size 24 (.slice a0 n ca) (.slice a0' n' ca')) := (Box2R.new _ _ _ _).stays hb0
  clear hb0 HB0
  by_cases hnn : left0 < 0
  · go_wp2_with fail
    go_ret
    exact ⟨rfl, HB1.out⟩
  have hle : n ≤ 1048576 := by have := hv (by omega); omega
  have hle' : n' ≤ 1048576 := by have := hv (by omega); omega
  have HSz : Hid (∀ x ∈ xs, x.size ≤ 1048576) := fun x hx => by have := hv (by omega); have := strBytes_mem xs x hx; omega
  clear hv hv1
  have HI : Hid (∀ (a a' : Option Addr) (W : World), Below w.heap.size w W → Strs W a n xs → Strs W a' n' ys → Calls Tryd.prog 9 #[.agg #[.slice a n n, .slice a' n' n']] W fun e w' => e = .returned (.int .i64 (topE xs)) ∧ Below W.heap.size W w') := fun a a' W hb h h' => HIm a a' W hb hle hle' HSz.out h h'
  clear HIm
  obtain ⟨a0c, a1c⟩ := HF1.out.cells
  go_wp2_with fail
  refine (toDisk_any a0 n ca xs a0' n' ca' ys x0 (HS.out _ HB1.out).1 (HS.out _ HB1.out).2 hle hle').mono ?_
  rintro e x1 ⟨g1, g1', rfl, _, ho1, ho1', hb1⟩
  have HB2 : Hid (Below w.heap.size w x1) := HB1.out.trans (hb1.mono HB1.out.size)
  have HF2 : Hid (Box2R x1 w.heap.size 24 (.slice a0 n ca) (.slice a0' n' ca')) := HF1.out.stays hb1
  clear hb1 HF1 HB1 a0c a1c
  go_wp2_with fail
  refine (specTop_any _ n n xs _ n' n' x1 ho1.strs (by omega) HSz.out).mono ?_
  rintro e x2 ⟨rfl, hb2⟩
  clear ho1 ho1'
  have HB3 : Hid (Below w.heap.size w x2) := HB2.out.trans (hb2.mono HB2.out.size)
  have HF3 : Hid (Box2R x2 w.heap.size 24 (.slice a0 n ca) (.slice a0' n' ca')) := HF2.out.stays hb2
  clear hb2 HF2 HB2
  obtain ⟨r, hr⟩ : ∃ r, topE xs = r := ⟨_, rfl⟩
  have HR : Hid (topE xs = r) := hr
  rw [hr]
  clear hr
  obtain ⟨a0c, a1c⟩ := HF3.out.cells
  go_wp2_with fail
  refine (toDisk_any a0 n ca xs a0' n' ca' ys x2 (HS.out _ HB3.out).1 (HS.out _ HB3.out).2 hle hle').mono ?_
  rintro e x3 ⟨g3, g3', rfl, _, ho3, ho3', hb3⟩
  have HB4 : Hid (Below w.heap.size w (x3.alloc (.cells #[.slice (some ⟨g3, 0, none⟩) n n, .slice (some ⟨g3', 0, none⟩) n' n'] 27))) := (HB3.out.trans (hb3.mono HB3.out.size)).alloc (HB3.out.trans (hb3.mono HB3.out.size)).size _
  have HF4 : Hid (Box2R (x3.alloc (.cells #[.slice (some ⟨g3, 0, none⟩) n n, .slice (some ⟨g3', 0, none⟩) n' n'] 27)) w.heap.size 24 (.slice a0 n ca) (.slice a0' n' ca')) := (HF3.out.stays hb3).alloc _
  have HX4 : Hid (Box2R (x3.alloc (.cells #[.slice (some ⟨g3, 0, none⟩) n n, .slice (some ⟨g3', 0, none⟩) n' n'] 27)) x3.heap.size 27 (.slice (some ⟨g3, 0, none⟩) n n) (.slice (some ⟨g3', 0, none⟩) n' n')) := Box2R.new _ _ _ _
  have HO4 : Hid (Strs (x3.alloc (.cells #[.slice (some ⟨g3, 0, none⟩) n n, .slice (some ⟨g3', 0, none⟩) n' n'] 27)) (some ⟨g3, 0, none⟩) n xs) := ho3.strs.below ((Below.refl _ _).alloc (Nat.le_refl _) _)
  have HP4 : Hid (Strs (x3.alloc (.cells #[.slice (some ⟨g3, 0, none⟩) n n, .slice (some ⟨g3', 0, none⟩) n' n'] 27)) (some ⟨g3', 0, none⟩) n' ys) := ho3'.strs.below ((Below.refl _ _).alloc (Nat.le_refl _) _)
  clear hb3 ho3 ho3' HF3 HB3 a0c a1c
  go_wp2_with fail
  obtain ⟨x4, hx4⟩ : ∃ x4, x3.alloc (.cells #[.slice (some ⟨g3, 0, none⟩) n n, .slice (some ⟨g3', 0, none⟩) n' n'] 27) = x4 := ⟨_, rfl⟩
  rw [hx4] at HB4 HF4 HX4 HO4 HP4 ⊢
  clear hx4
  generalize x3.heap.size = bx at *
  refine (HI.out _ _ x4 HB4.out HO4.out HP4.out).mono ?_
  rintro e x5 ⟨rfl, hb5⟩
  rw [HR.out]
  have HU : Hid (∀ W, Below x5.heap.size x5 W → Below w.heap.size w W ∧ Box2R W w.heap.size 24 (.slice a0 n ca) (.slice a0' n' ca') ∧ Box2R W bx 27 (.slice (some ⟨g3, 0, none⟩) n n) (.slice (some ⟨g3', 0, none⟩) n' n') ∧ (Strs W (some ⟨g3, 0, none⟩) n xs ∧ Strs W (some ⟨g3', 0, none⟩) n' ys) ∧ (Strs W a0 n xs ∧ Strs W a0' n' ys)) := by
    intro W hW
    have hb : Below x4.heap.size x4 W := hb5.trans (hW.mono hb5.size)
    have hw : Below w.heap.size w W := HB4.out.trans (hb.mono HB4.out.size)
    exact ⟨hw, HF4.out.stays hb, HX4.out.stays hb, ⟨HO4.out.below hb, HP4.out.below hb⟩, HS.out _ hw⟩
  clear hb5 HB4 HF4 HX4 HO4 HP4
  have hne : (r != r) = false := by simp
  obtain ⟨c0, c1⟩ := (HU.out x5 (Below.refl _ _)).2.1.cells
  obtain ⟨d0, d1⟩ := (HU.out x5 (Below.refl _ _)).2.2.1.cells
  go_wp2_with fail
  go_region_with (first
      | (go_at_call 8; refine (toDisk_any a0 n ca xs a0' n' ca' ys _ (HU.out _ (Below.refl _ _).drew).2.2.2.2.1 (HU.out _ (Below.refl _ _).drew).2.2.2.2.2 hle hle').mono ?_; rintro e y1 ⟨g6, g6', rfl, _, ho6, ho6', hb6⟩; have hb6' : Below x5.heap.size x5 y1 := (Below.refl x5.heap.size x5).drew.trans (hb6.mono (Nat.le_refl _)); obtain ⟨k0, k1⟩ := (HU.out _ hb6').2.2.1.cells)
      | (go_at_call 10; refine (eqDisk_same _ _ n n n xs _ _ n' n' n' ys _ (HU.out _ hb6').2.2.2.1.1 ho6.strs (HU.out _ hb6').2.2.2.1.2 ho6'.strs (by omega) (by omega)).mono ?_; rintro e y2 ⟨rfl, hb7⟩))
  all_goals
    have HB9 : Hid (Below w.heap.size w y2) := by
      show Below _ _ _
      have h1 := (HU.out _ hb6').1
      first
        | exact h1.trans (hb7.mono h1.size)
        | exact h1.drew.trans (hb7.mono h1.size)
    clear hb7 hb6 hb6' ho6 ho6' k0 k1 c0 c1 d0 d1
    go_wp2_with fail
    go_ret
    exact ⟨rfl, HB9.out⟩

end Go.Proofs.YtenkpgnkkkgdmatDoor
