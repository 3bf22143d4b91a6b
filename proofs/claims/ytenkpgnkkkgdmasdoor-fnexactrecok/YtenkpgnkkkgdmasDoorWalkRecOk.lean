/- The walk of the law that RecOk answers as the specification's; under a contract of the program's own function. -/
import Derived.Test.YtenkpgnkkkgdmasDoorRecTo
import Derived.Test.YtenkpgnkkkgdmasDoorRecOkS
import Derived.Deep.RegionWith
namespace Go.Proofs.YtenkpgnkkkgdmasDoor
open Go.RowKit
set_option linter.unusedVariables false

set_option maxRecDepth 10000 in
set_option maxHeartbeats 1600000 in
theorem recOkWalk (e q k : Int) (id : ByteArray) (n : Int) (a0 : Option Addr) (d ca : Nat) (zs : List Int) (w : World) (hi : id.size ≤ maxLen) (hl : d ≤ maxLen) (hs : Seg w a0 d zs)
    (HIm : ∀ (a : Option Addr) (W : World), Below w.heap.size w W → id.size ≤ 1048576 → d ≤ 1048576 → Seg W a d zs → Calls Tryd.prog 10 #[.agg #[.int .i64 e, .int .i64 q, .int .i64 k, .string id, .int .i64 n, .slice a d d]] W fun r w' => r = .returned (.bool (okRec e q k id n d)) ∧ Below W.heap.size W w') :
    Calls Tryd.prog 3 #[.agg #[.int .i64 e, .int .i64 q, .int .i64 k, .string id, .int .i64 n, .slice a0 d ca]] w fun r w' => r = .returned (.bool true) ∧ Below w.heap.size w w' := by
  have HS : Hid (∀ W, Below w.heap.size w W → Seg W a0 d zs) := fun W h => hs.below h
  clear hs
  have HB0 : Hid (Below w.heap.size w (w.alloc (.cells #[.int .i64 e, .int .i64 q, .int .i64 k, .string id, .int .i64 n, .slice a0 d ca] 24))) := (Below.refl _ _).alloc (Nat.le_refl _) _
  go_enter Tryd.func3, Tryd.ntmps3
  go_wp2_with fail
  refine (szRec_any e q k id n a0 d ca 1048576 _ (by omega) (by omega) hi hl).mono ?_
  rintro r x0 ⟨⟨left0, rfl, hv⟩, hb0⟩
  have HB1 : Hid (Below w.heap.size w x0) := HB0.out.trans (hb0.mono HB0.out.size)
  have HF1 : Hid (BoxN x0 w.heap.size 24 [.int .i64 e, .int .i64 q, .int .i64 k, .string id, .int .i64 n, .slice a0 d ca]) := (BoxN.new _ _ _).stays hb0
  clear hb0 HB0
  by_cases hnn : left0 < 0
  · go_wp2_with fail
    go_ret
    exact ⟨rfl, HB1.out⟩
  have hle : id.size ≤ 1048576 := by omega
  have hle' : d ≤ 1048576 := by omega
  clear hv
  have HI : Hid (∀ (a : Option Addr) (W : World), Below w.heap.size w W → Seg W a d zs → Calls Tryd.prog 10 #[.agg #[.int .i64 e, .int .i64 q, .int .i64 k, .string id, .int .i64 n, .slice a d d]] W fun r w' => r = .returned (.bool (okRec e q k id n d)) ∧ Below W.heap.size W w') := fun a W hb h => HIm a W hb hle hle' h
  clear HIm
  have s0 := HF1.out.cell 0 rfl
  have s1 := HF1.out.cell 1 rfl
  have s2 := HF1.out.cell 2 rfl
  have s3 := HF1.out.cell 3 rfl
  have s4 := HF1.out.cell 4 rfl
  have s5 := HF1.out.cell 5 rfl
  go_wp2_with fail
  refine (toRec_any e q k id n a0 d ca zs x0 (HS.out _ HB1.out) hle').mono ?_
  rintro r x1 ⟨⟨g1, rfl, ho1⟩, hb1⟩
  have HB2 : Hid (Below w.heap.size w x1) := HB1.out.trans (hb1.mono HB1.out.size)
  have HF2 : Hid (BoxN x1 w.heap.size 24 [.int .i64 e, .int .i64 q, .int .i64 k, .string id, .int .i64 n, .slice a0 d ca]) := HF1.out.stays hb1
  clear hb1 HF1 HB1 s0 s1 s2 s3 s4 s5
  go_wp2_with fail
  refine (specRok_any e q k id n _ d d x1 hi (by omega)).mono ?_
  rintro r x2 ⟨rfl, hb2⟩
  clear ho1
  have HB3 : Hid (Below w.heap.size w x2) := HB2.out.trans (hb2.mono HB2.out.size)
  have HF3 : Hid (BoxN x2 w.heap.size 24 [.int .i64 e, .int .i64 q, .int .i64 k, .string id, .int .i64 n, .slice a0 d ca]) := HF2.out.stays hb2
  clear hb2 HF2 HB2
  obtain ⟨r, hr⟩ : ∃ r, okRec e q k id n d = r := ⟨_, rfl⟩
  have HR : Hid (okRec e q k id n d = r) := hr
  rw [hr]
  clear hr
  have b0 := HF3.out.cell 0 rfl
  have b1 := HF3.out.cell 1 rfl
  have b2 := HF3.out.cell 2 rfl
  have b3 := HF3.out.cell 3 rfl
  have b4 := HF3.out.cell 4 rfl
  have b5 := HF3.out.cell 5 rfl
  go_wp2_with fail
  refine (toRec_any e q k id n a0 d ca zs x2 (HS.out _ HB3.out) hle').mono ?_
  rintro _ x3 ⟨⟨g3, rfl, ho3⟩, hb3⟩
  have HB4 : Hid (Below w.heap.size w (x3.alloc (.cells #[.int .i64 e, .int .i64 q, .int .i64 k, .string id, .int .i64 n, .slice (some ⟨g3, 0, none⟩) d d] 27))) := (HB3.out.trans (hb3.mono HB3.out.size)).alloc (HB3.out.trans (hb3.mono HB3.out.size)).size _
  have HF4 : Hid (BoxN (x3.alloc (.cells #[.int .i64 e, .int .i64 q, .int .i64 k, .string id, .int .i64 n, .slice (some ⟨g3, 0, none⟩) d d] 27)) w.heap.size 24 [.int .i64 e, .int .i64 q, .int .i64 k, .string id, .int .i64 n, .slice a0 d ca]) := (HF3.out.stays hb3).alloc _
  have HX4 : Hid (BoxN (x3.alloc (.cells #[.int .i64 e, .int .i64 q, .int .i64 k, .string id, .int .i64 n, .slice (some ⟨g3, 0, none⟩) d d] 27)) x3.heap.size 27 [.int .i64 e, .int .i64 q, .int .i64 k, .string id, .int .i64 n, .slice (some ⟨g3, 0, none⟩) d d]) := BoxN.new _ _ _
  have HO4 : Hid (Seg (x3.alloc (.cells #[.int .i64 e, .int .i64 q, .int .i64 k, .string id, .int .i64 n, .slice (some ⟨g3, 0, none⟩) d d] 27)) (some ⟨g3, 0, none⟩) d zs) := ho3.seg.below ((Below.refl _ _).alloc (Nat.le_refl _) _)
  clear hb3 ho3 HF3 HB3 b0 b1 b2 b3 b4 b5
  go_wp2_with fail
  obtain ⟨x4, hx4⟩ : ∃ x4, x3.alloc (.cells #[.int .i64 e, .int .i64 q, .int .i64 k, .string id, .int .i64 n, .slice (some ⟨g3, 0, none⟩) d d] 27) = x4 := ⟨_, rfl⟩
  rw [hx4] at HB4 HF4 HX4 HO4 ⊢
  clear hx4
  generalize x3.heap.size = bx at *
  refine (HI.out _ x4 HB4.out HO4.out).mono ?_
  rintro _ x5 ⟨rfl, hb5⟩
  rw [HR.out]
  have HU : Hid (∀ W, Below x5.heap.size x5 W → Below w.heap.size w W ∧ BoxN W w.heap.size 24 [.int .i64 e, .int .i64 q, .int .i64 k, .string id, .int .i64 n, .slice a0 d ca] ∧ BoxN W bx 27 [.int .i64 e, .int .i64 q, .int .i64 k, .string id, .int .i64 n, .slice (some ⟨g3, 0, none⟩) d d] ∧ Seg W (some ⟨g3, 0, none⟩) d zs ∧ Seg W a0 d zs) := by
    intro W hW
    have hb : Below x4.heap.size x4 W := hb5.trans (hW.mono hb5.size)
    have hw : Below w.heap.size w W := HB4.out.trans (hb.mono HB4.out.size)
    exact ⟨hw, HF4.out.stays hb, HX4.out.stays hb, HO4.out.below hb, HS.out _ hw⟩
  clear hb5 HB4 HF4 HX4 HO4
  have hne : (r != r) = false := by simp
  have c0 := (HU.out x5 (Below.refl _ _)).2.1.cell 0 rfl
  have c1 := (HU.out x5 (Below.refl _ _)).2.1.cell 1 rfl
  have c2 := (HU.out x5 (Below.refl _ _)).2.1.cell 2 rfl
  have c3 := (HU.out x5 (Below.refl _ _)).2.1.cell 3 rfl
  have c4 := (HU.out x5 (Below.refl _ _)).2.1.cell 4 rfl
  have c5 := (HU.out x5 (Below.refl _ _)).2.1.cell 5 rfl
  have d0 := (HU.out x5 (Below.refl _ _)).2.2.1.cell 0 rfl
  have d1 := (HU.out x5 (Below.refl _ _)).2.2.1.cell 1 rfl
  have d2 := (HU.out x5 (Below.refl _ _)).2.2.1.cell 2 rfl
  have d3 := (HU.out x5 (Below.refl _ _)).2.2.1.cell 3 rfl
  have d4 := (HU.out x5 (Below.refl _ _)).2.2.1.cell 4 rfl
  have d5 := (HU.out x5 (Below.refl _ _)).2.2.1.cell 5 rfl
  go_wp2_with fail
  go_region_with (first
      | (go_at_call 9; refine (toRec_any e q k id n a0 d ca zs _ (HU.out _ (Below.refl _ _).drew).2.2.2.2 hle').mono ?_; rintro _ y1 ⟨⟨g6, rfl, ho6⟩, hb6⟩; have hb6' : Below x5.heap.size x5 y1 := (Below.refl x5.heap.size x5).drew.trans (hb6.mono (Nat.le_refl _)); have k0 := (HU.out _ hb6').2.2.1.cell 0 rfl; have k1 := (HU.out _ hb6').2.2.1.cell 1 rfl; have k2 := (HU.out _ hb6').2.2.1.cell 2 rfl; have k3 := (HU.out _ hb6').2.2.1.cell 3 rfl; have k4 := (HU.out _ hb6').2.2.1.cell 4 rfl; have k5 := (HU.out _ hb6').2.2.1.cell 5 rfl)
      | (go_at_call 11; refine (eqRec_same e q k id n _ _ d d d zs _ (HU.out _ hb6').2.2.2.1 ho6.seg (by omega)).mono ?_; rintro _ y2 ⟨rfl, hb7⟩))
  all_goals
    have HB9 : Hid (Below w.heap.size w y2) := by
      show Below _ _ _
      have h1 := (HU.out _ hb6').1
      first
        | exact h1.trans (hb7.mono h1.size)
        | exact h1.drew.trans (hb7.mono h1.size)
    clear hb7 hb6 hb6' ho6 k0 k1 k2 k3 k4 k5 c0 c1 c2 c3 c4 c5 d0 d1 d2 d3 d4 d5
    go_wp2_with fail
    go_ret
    exact ⟨rfl, HB9.out⟩

end Go.Proofs.YtenkpgnkkkgdmasDoor
