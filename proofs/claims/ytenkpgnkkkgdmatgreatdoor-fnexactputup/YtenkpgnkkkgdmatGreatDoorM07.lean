/- The laws' copy of a disk. What the laws' own functions do with stores: the size, the copy. Uploads held against themselves. Stores held against themselves. -/
import Derived.Test.YtenkpgnkkkgdmatGreatDoorM06
import Derived.Test.YtenkpgnkkkgdmatGreatDoorM04
import Derived.Deep.CutBlock
import Derived.Test.YtenkpgnkkkgdmatGreatDoorM05
import Derived.Test.YtenkpgnkkkgdmatGreatDoorM05
namespace Go.Proofs.YtenkpgnkkkgdmatGreatDoor
open Go.RowKit
set_option linter.unusedVariables false

set_option maxHeartbeats 800000 in
theorem toDisk_any (a : Option Addr) (n ca : Nat) (xs : List ByteArray) (a' : Option Addr) (n' ca' : Nat) (ys : List ByteArray) (w : World) (h1 : Strs w a n xs) (h3 : Strs w a' n' ys) (hn : n ≤ 1048576) (hn' : n' ≤ 1048576) :
    Calls Tryz.prog 26 #[.agg #[.slice a n ca, .slice a' n' ca']] w fun r w' => ∃ g g', r = .returned (.agg #[.slice (some ⟨g, 0, none⟩) n n, .slice (some ⟨g', 0, none⟩) n' n']) ∧ g ≠ g' ∧ OwnSt w' w.heap.size (.slice (some ⟨g, 0, none⟩) n n) n xs ∧ OwnSt w' w.heap.size (.slice (some ⟨g', 0, none⟩) n' n') n' ys ∧ Below w.heap.size w w' := by
  have HX : Hid (∀ W, Below w.heap.size w W → Strs W a n xs ∧ Strs W a' n' ys) := fun W h => ⟨h1.below h, h3.below h⟩
  clear h1 h3
  go_enter Tryz.func26, Tryz.ntmps26
  go_wp2_with fail
  obtain ⟨w0, hw0⟩ : ∃ w0, ((w.alloc (Obj.cells #[Value.slice a n ca, Value.slice a' n' ca'] 24)).alloc (Obj.cells #[Value.slice none 0 0, Value.slice none 0 0] 29)).alloc (Obj.cells #[Value.slice none 0 0, Value.slice none 0 0] 29) = w0 := ⟨_, rfl⟩
  have HB : Hid (Below w.heap.size w w0) := by
    rw [← hw0]
    exact (((Below.refl _ _).alloc (Nat.le_refl _) _).alloc (by simp) _).alloc (by simp; omega) _
  have HZ : Hid (w0.heap.size = w.heap.size + 3) := by show _ = _; rw [← hw0]; simp
  have HA : Hid (Box2R w0 w.heap.size 24 (.slice a n ca) (.slice a' n' ca')) := by
    rw [← hw0]
    exact ((Box2R.new _ _ _ _).alloc _).alloc _
  have HR : Hid (Box2R w0 (w.heap.size + 1) 29 (.slice none 0 0) (.slice none 0 0)) := by
    have := (Box2R.new (w.alloc (Obj.cells #[Value.slice a n ca, Value.slice a' n' ca'] 24)) 29 (.slice none 0 0) (.slice none 0 0)).alloc (Obj.cells #[Value.slice none 0 0, Value.slice none 0 0] 29)
    rw [World.size_alloc, hw0] at this
    exact this
  have HO : Hid (Box2R w0 (w.heap.size + 1 + 1) 29 (.slice none 0 0) (.slice none 0 0)) := by
    have := Box2R.new ((w.alloc (Obj.cells #[Value.slice a n ca, Value.slice a' n' ca'] 24)).alloc (Obj.cells #[Value.slice none 0 0, Value.slice none 0 0] 29)) 29 (.slice none 0 0) (.slice none 0 0)
    rw [World.size_alloc, World.size_alloc, hw0] at this
    exact this
  rw [hw0]
  clear hw0
  refine (toStrS_own a n ca xs _ (HX.out _ HB.out).1 hn).mono ?_
  rintro r x1 ⟨rfl, ho1, hb1⟩
  generalize hg : w0.heap.size = g at *
  have HO1 : Hid (OwnSt x1 w.heap.size (.slice (some ⟨g, 0, none⟩) n n) n xs) := ho1.low (by have := HZ.out; omega)
  have HB1 : Hid (Below w.heap.size w x1) := HB.out.trans (hb1.mono (by have := HZ.out; omega))
  have HA1 : Hid (Box2R x1 w.heap.size 24 (.slice a n ca) (.slice a' n' ca')) := HA.out.stays (by rw [hg]; exact hb1)
  have HV1 : Hid (Box2R x1 (w.heap.size + 1 + 1) 29 (.slice none 0 0) (.slice none 0 0)) := HO.out.stays (by rw [hg]; exact hb1)
  have hgg : w.heap.size + 1 + 1 < g := by have := HZ.out; omega
  have HR1 : Hid (Box2R x1 (w.heap.size + 1) 29 (.slice none 0 0) (.slice none 0 0)) := HR.out.stays (by rw [hg]; exact hb1)
  clear ho1 hb1 HA HO HB HZ HR hg
  obtain ⟨c0, c1⟩ := HA1.out.cells
  obtain ⟨d0, d1⟩ := HV1.out.cells
  have f0 := HV1.out.frozen 0
  go_wp2_with fail
  obtain ⟨x2, hx2⟩ : ∃ x2, x1.setCell ⟨w.heap.size + 1 + 1, 0, none⟩ (.slice (some ⟨g, 0, none⟩) n n) = x2 := ⟨_, rfl⟩
  have HO2 : Hid (OwnSt x2 w.heap.size (.slice (some ⟨g, 0, none⟩) n n) n xs) := by
    rw [← hx2]
    exact HO1.out.setCell (by simp [blkOf]; omega) _
  have HB2 : Hid (Below w.heap.size w x2) := by
    rw [← hx2]
    exact HB1.out.setCell (by dsimp only; omega) _
  have HA2 : Hid (Box2R x2 w.heap.size 24 (.slice a n ca) (.slice a' n' ca')) := by
    rw [← hx2]
    exact HA1.out.other (by omega) _
  have HV2 : Hid (Box2R x2 (w.heap.size + 1 + 1) 29 (.slice (some ⟨g, 0, none⟩) n n) (.slice none 0 0)) := by
    rw [← hx2]
    exact HV1.out.set0 _
  have HR2 : Hid (Box2R x2 (w.heap.size + 1) 29 (.slice none 0 0) (.slice none 0 0)) := by
    rw [← hx2]
    exact HR1.out.other (by omega) _
  rw [hx2]
  clear hx2 HR1 HO1 HB1 HA1 HV1 c0 c1 d0 d1 f0
  refine (toStrS_own a' n' ca' ys _ (HX.out _ HB2.out).2 hn').mono ?_
  rintro r x3 ⟨rfl, ho3, hb3⟩
  have hgx : g < x2.heap.size := (HO2.out.lt g rfl).2
  generalize hg' : x2.heap.size = g' at *
  have HO3 : Hid (OwnSt x3 w.heap.size (.slice (some ⟨g, 0, none⟩) n n) n xs) := HO2.out.below (by rw [hg']; exact hb3)
  have HP3 : Hid (OwnSt x3 w.heap.size (.slice (some ⟨g', 0, none⟩) n' n') n' ys) := ho3.low (by omega)
  have HB3 : Hid (Below w.heap.size w x3) := HB2.out.trans (hb3.mono (by omega))
  have HV3 : Hid (Box2R x3 (w.heap.size + 1 + 1) 29 (.slice (some ⟨g, 0, none⟩) n n) (.slice none 0 0)) := HV2.out.stays (by rw [hg']; exact hb3)
  have HR3 : Hid (Box2R x3 (w.heap.size + 1) 29 (.slice none 0 0) (.slice none 0 0)) := HR2.out.stays (by rw [hg']; exact hb3)
  clear ho3 hb3 HA2 HV2 HO2 HB2 HR2 hg'
  obtain ⟨d0, d1⟩ := HV3.out.cells
  have f1 := HV3.out.frozen 1
  obtain ⟨e0, e1⟩ := (HV3.out.set1 (.slice (some ⟨g', 0, none⟩) n' n')).cells
  obtain ⟨r0, r1⟩ := HR3.out.cells
  have s0 := HR3.out.frozen 0
  have s1 := HR3.out.frozen 1
  go_wp2_with fail
  refine bodyPost_ret (v := .agg #[.slice (some ⟨g, 0, none⟩) n n, .slice (some ⟨g', 0, none⟩) n' n']) (by simp [results, Tryz.f26, go_sem, r0, r1]) rfl ?_
  refine ⟨g, g', rfl, by omega, ((HO3.out.setCell (by simp [blkOf]; omega) _).setCell (by simp [blkOf]; omega) _).setCell (by simp [blkOf]; omega) _, ((HP3.out.setCell (by simp [blkOf]; omega) _).setCell (by simp [blkOf]; omega) _).setCell (by simp [blkOf]; omega) _, ((HB3.out.setCell (by dsimp only; omega) _).setCell (by dsimp only; omega) _).setCell (by dsimp only; omega) _⟩

end Go.Proofs.YtenkpgnkkkgdmatGreatDoor

namespace Go.Proofs.YtenkpgnkkkgdmatGreatDoor
open Go.RowKit
set_option linter.unusedVariables false

/-- How great a store may be. -/
def SzS (n : Nat) (X : List ByteArray) (n' : Nat) (Y : List ByteArray) (un : Nat) (l : List UE) : Prop := n ≤ 1048576 ∧ n' ≤ 1048576 ∧ (∀ x ∈ X, x.size ≤ 1048576) ∧ (∀ y ∈ Y, y.size ≤ 1048576) ∧ SzU un l

set_option maxRecDepth 10000 in
set_option maxHeartbeats 800000 in
theorem szStore_any (a : Option Addr) (n ca : Nat) (X : List ByteArray) (a' : Option Addr) (n' ca' : Nat) (Y : List ByteArray) (ep nx : Int) (ua : Option Addr) (un uc : Nat) (l : List UE) (w : World) (h1 : Strs w a n X) (h2 : Strs w a' n' Y) (hu : UpsI w ua un l) (hn : n ≤ maxLen) (hn' : n' ≤ maxLen) (hun : un ≤ maxLen) :
    Calls Tryz.prog 5 #[.agg #[.slice a n ca, .slice a' n' ca', .int .i64 ep, .int .i64 nx, .slice ua un uc], .int .i64 1048576] w fun r w' => (∃ L : Int, r = .returned (.int .i64 L) ∧ (L < 0 ∨ (SzS n X n' Y un l ∧ 0 ≤ L))) ∧ Below w.heap.size w w' := by
  have HX : Hid (∀ W, Below w.heap.size w W → Strs W a n X ∧ Strs W a' n' Y ∧ UpsI W ua un l) := fun W h => ⟨h1.below h, h2.below h, hu.below h⟩
  have HA : Hid (BoxN (w.alloc (.cells #[.slice a n ca, .slice a' n' ca', .int .i64 ep, .int .i64 nx, .slice ua un uc] 27)) w.heap.size 27 [.slice a n ca, .slice a' n' ca', .int .i64 ep, .int .i64 nx, .slice ua un uc]) := BoxN.new _ _ _
  have HB : Hid (Below w.heap.size w (w.alloc (.cells #[.slice a n ca, .slice a' n' ca', .int .i64 ep, .int .i64 nx, .slice ua un uc] 27))) := (Below.refl _ _).alloc (Nat.le_refl _) _
  clear h1 h2 hu
  go_enter Tryz.func5, Tryz.ntmps5
  go_wp2_with fail
  refine (szDisk_any a n ca X a' n' ca' Y 1048576 _ (HX.out _ HB.out).1 (HX.out _ HB.out).2.1 (by omega) (by omega) hn hn').mono ?_
  rintro _ x1 ⟨⟨v, rfl, hv1, hv2⟩, hb1⟩
  have HV : Hid (v ≤ 1048576 ∧ (0 ≤ v → v + (n + strBytes X) + (n' + strBytes Y) ≤ 1048576)) := ⟨hv1, hv2⟩
  have HB1 : Hid (Below w.heap.size w x1) := HB.out.trans (hb1.mono HB.out.size)
  have c4 := (HA.out.stays hb1).cell 4 rfl
  clear hb1 hv1 hv2
  by_cases hneg : v < 0
  · go_wp2_with fail
    go_ret
    exact ⟨⟨-1, rfl, .inl (by omega)⟩, HB1.out⟩
  have hv0 : 0 ≤ v := by omega
  have hvm : v ≤ 1048576 := HV.out.1
  go_wp2_with fail
  refine (szUpS_any ua un uc l v x1 (HX.out _ HB1.out).2.2 hv0 hvm hun).mono ?_
  rintro _ x2 ⟨⟨L, rfl, hL⟩, hb2⟩
  have HL : Hid (L < 0 ∨ (SzU un l ∧ 0 ≤ L ∧ L ≤ v)) := hL
  have HB2 : Hid (Below w.heap.size w x2) := HB1.out.trans (hb2.mono HB1.out.size)
  clear hb2 hL c4
  by_cases hneg2 : L < 0
  · go_wp2_with fail
    go_ret
    exact ⟨⟨-1, rfl, .inl (by omega)⟩, HB2.out⟩
  have HS : Hid (SzS n X n' Y un l) := by
    have h1 := HV.out.2 hv0
    refine ⟨by omega, by omega, fun x hx => ?_, fun y hy => ?_, ?_⟩
    · have := strBytes_mem X x hx; omega
    · have := strBytes_mem Y y hy; omega
    · rcases HL.out with h | h
      · exact absurd h hneg2
      · exact h.1
  go_wp2_with fail
  go_ret
  exact ⟨⟨L, rfl, .inr ⟨HS.out, by omega⟩⟩, HB2.out⟩

set_option maxRecDepth 10000 in
set_option maxHeartbeats 1600000 in
theorem toStore_any (a : Option Addr) (n ca : Nat) (X : List ByteArray) (a' : Option Addr) (n' ca' : Nat) (Y : List ByteArray) (ep nx : Int) (ua : Option Addr) (un uc : Nat) (l : List UE) (w : World) (h1 : Strs w a n X) (h2 : Strs w a' n' Y) (hu : UpsI w ua un l) (hs : SzS n X n' Y un l) :
    Calls Tryz.prog 7 #[.agg #[.slice a n ca, .slice a' n' ca', .int .i64 ep, .int .i64 nx, .slice ua un uc]] w fun r w' => (∃ g g' gu l', r = .returned (.agg #[.slice (some ⟨g, 0, none⟩) n n, .slice (some ⟨g', 0, none⟩) n' n', .int .i64 ep, .int .i64 nx, .slice (some ⟨gu, 0, none⟩) un un]) ∧ StoAt w' w.heap.size (some ⟨g, 0, none⟩) n n X (some ⟨g', 0, none⟩) n' n' Y (some ⟨gu, 0, none⟩) un un l' ∧ l'.map UE.u = l.map UE.u ∧ ∀ e ∈ l', e.n ≤ 1048576) ∧ Below w.heap.size w w' := by
  have HX : Hid (∀ W, Below w.heap.size w W → Strs W a n X ∧ Strs W a' n' Y ∧ UpsI W ua un l) := fun W h => ⟨h1.below h, h2.below h, hu.below h⟩
  have HS : Hid (SzS n X n' Y un l) := hs
  have HLu : Hid (l.length = un) := hu.1
  clear h1 h2 hu hs
  obtain ⟨W0, hW0⟩ : ∃ W0, ((w.alloc (.cells #[.slice a n ca, .slice a' n' ca', .int .i64 ep, .int .i64 nx, .slice ua un uc] 27)).alloc (.cells #[.slice none 0 0, .slice none 0 0, .int .i64 0, .int .i64 0, .slice none 0 0] 32)).alloc (.cells #[.slice none 0 0, .slice none 0 0, .int .i64 0, .int .i64 0, .slice none 0 0] 32) = W0 := ⟨_, rfl⟩
  have HE : Hid (((w.alloc (.cells #[.slice a n ca, .slice a' n' ca', .int .i64 ep, .int .i64 nx, .slice ua un uc] 27)).alloc (.cells #[.slice none 0 0, .slice none 0 0, .int .i64 0, .int .i64 0, .slice none 0 0] 32)).alloc (.cells #[.slice none 0 0, .slice none 0 0, .int .i64 0, .int .i64 0, .slice none 0 0] 32) = W0) := hW0
  have HB : Hid (Below w.heap.size w W0) := by show Below _ _ _; rw [← hW0]; exact (((Below.refl _ _).alloc (Nat.le_refl _) _).alloc (by simp) _).alloc (by simp; omega) _
  have HI : Hid (BoxN W0 w.heap.size 27 [.slice a n ca, .slice a' n' ca', .int .i64 ep, .int .i64 nx, .slice ua un uc]) := by show BoxN _ _ _ _; rw [← hW0]; exact ((BoxN.new _ _ _).alloc _).alloc _
  have HR : Hid (BoxN W0 (w.heap.size + 1) 32 [.slice none 0 0, .slice none 0 0, .int .i64 0, .int .i64 0, .slice none 0 0]) := by
    show BoxN _ _ _ _
    rw [← hW0]
    have := (BoxN.new (w.alloc (.cells #[.slice a n ca, .slice a' n' ca', .int .i64 ep, .int .i64 nx, .slice ua un uc] 27)) 32 [.slice none 0 0, .slice none 0 0, .int .i64 0, .int .i64 0, .slice none 0 0]).alloc (.cells #[.slice none 0 0, .slice none 0 0, .int .i64 0, .int .i64 0, .slice none 0 0] 32)
    rw [World.size_alloc] at this
    exact this
  have HO : Hid (BoxN W0 (w.heap.size + 1 + 1) 32 [.slice none 0 0, .slice none 0 0, .int .i64 0, .int .i64 0, .slice none 0 0]) := by
    show BoxN _ _ _ _
    rw [← hW0]
    have := BoxN.new ((w.alloc (.cells #[.slice a n ca, .slice a' n' ca', .int .i64 ep, .int .i64 nx, .slice ua un uc] 27)).alloc (.cells #[.slice none 0 0, .slice none 0 0, .int .i64 0, .int .i64 0, .slice none 0 0] 32)) 32 [.slice none 0 0, .slice none 0 0, .int .i64 0, .int .i64 0, .slice none 0 0]
    rw [World.size_alloc, World.size_alloc] at this
    exact this
  clear hW0
  have c0 := HI.out.cell 0 rfl
  have c1 := HI.out.cell 1 rfl
  go_enter Tryz.func7, Tryz.ntmps7
  go_upto_region 2 with fail
  rw [HE.out]
  clear HE
  go_wp2_with fail
  refine (toDisk_any a n ca X a' n' ca' Y W0 (HX.out _ HB.out).1 (HX.out _ HB.out).2.1 HS.out.1 HS.out.2.1).mono ?_
  rintro _ x1 ⟨g, g', rfl, hgg, ho1, ho2, hb1⟩
  have HO1 : Hid (OwnSt x1 W0.heap.size (.slice (some ⟨g, 0, none⟩) n n) n X ∧ OwnSt x1 W0.heap.size (.slice (some ⟨g', 0, none⟩) n' n') n' Y ∧ g ≠ g') := ⟨ho1, ho2, hgg⟩
  have HB1 : Hid (Below W0.heap.size W0 x1) := hb1
  have hi1 := HI.out.stays hb1
  have ho1' := HO.out.stays hb1
  have c2 := hi1.cell 2 rfl
  have c3 := hi1.cell 3 rfl
  have c4 := hi1.cell 4 rfl
  have o0 := ho1'.cell 0 rfl
  have o1 := ho1'.cell 1 rfl
  have o2 := ho1'.cell 2 rfl
  have o3 := ho1'.cell 3 rfl
  have f0 := ho1'.frozen 0
  have f1 := ho1'.frozen 1
  have f2 := ho1'.frozen 2
  have f3 := ho1'.frozen 3
  obtain ⟨x2, hx2⟩ : ∃ x2, ((((x1.setCell ⟨w.heap.size + 1 + 1, 0, none⟩ (.slice (some ⟨g, 0, none⟩) n n)).setCell ⟨w.heap.size + 1 + 1, 1, none⟩ (.slice (some ⟨g', 0, none⟩) n' n')).setCell ⟨w.heap.size + 1 + 1, 2, none⟩ (.int .i64 ep)).setCell ⟨w.heap.size + 1 + 1, 3, none⟩ (.int .i64 nx)) = x2 := ⟨_, rfl⟩
  have HE2 : Hid (((((x1.setCell ⟨w.heap.size + 1 + 1, 0, none⟩ (.slice (some ⟨g, 0, none⟩) n n)).setCell ⟨w.heap.size + 1 + 1, 1, none⟩ (.slice (some ⟨g', 0, none⟩) n' n')).setCell ⟨w.heap.size + 1 + 1, 2, none⟩ (.int .i64 ep)).setCell ⟨w.heap.size + 1 + 1, 3, none⟩ (.int .i64 nx)) = x2) := hx2
  have hlt : w.heap.size + 1 + 1 < W0.heap.size := HO.out.lt
  have hbs : Below W0.heap.size W0 x1 := HB1.out
  have HB2 : Hid (Below w.heap.size w x2) := by
    show Below _ _ _
    rw [← hx2]
    exact ((((HB.out.trans (hbs.mono HB.out.size)).setCell (by dsimp only; omega) _).setCell (by dsimp only; omega) _).setCell (by dsimp only; omega) _).setCell (by dsimp only; omega) _
  have HO2 : Hid (BoxN x2 (w.heap.size + 1 + 1) 32 [.slice (some ⟨g, 0, none⟩) n n, .slice (some ⟨g', 0, none⟩) n' n', .int .i64 ep, .int .i64 nx, .slice none 0 0]) := by
    show BoxN _ _ _ _
    rw [← hx2]
    exact (((ho1'.set 0 _).set 1 _).set 2 _).set 3 _
  have HR2 : Hid (BoxN x2 (w.heap.size + 1) 32 [.slice none 0 0, .slice none 0 0, .int .i64 0, .int .i64 0, .slice none 0 0]) := by
    show BoxN _ _ _ _
    rw [← hx2]
    exact ((((HR.out.stays hb1).other (by omega) _).other (by omega) _).other (by omega) _).other (by omega) _
  have hgs : W0.heap.size ≤ g := (ho1.lt g rfl).1
  have hgs' : W0.heap.size ≤ g' := (ho2.lt g' rfl).1
  have HD2 : Hid (OwnSt x2 W0.heap.size (.slice (some ⟨g, 0, none⟩) n n) n X ∧ OwnSt x2 W0.heap.size (.slice (some ⟨g', 0, none⟩) n' n') n' Y ∧ g ≠ g') := by
    refine ⟨?_, ?_, hgg⟩
    · rw [← hx2]
      exact (((ho1.setCell (by simp [blkOf]; omega) _).setCell (by simp [blkOf]; omega) _).setCell (by simp [blkOf]; omega) _).setCell (by simp [blkOf]; omega) _
    · rw [← hx2]
      exact (((ho2.setCell (by simp [blkOf]; omega) _).setCell (by simp [blkOf]; omega) _).setCell (by simp [blkOf]; omega) _).setCell (by simp [blkOf]; omega) _
  clear hx2 hi1 ho1' hb1 HI HR HO HO1 hgs hgs' ho1 ho2 hgg hbs
  go_wp2_with fail
  rw [HE2.out]
  clear HE2 c0 c1 c2 c3 c4 o0 o1 o2 o3 f0 f1 f2 f3
  refine (toUpS_any ua un uc l x2 (HX.out _ HB2.out).2.2 HS.out.2.2.2.2).mono ?_
  rintro _ x3 ⟨⟨gu, l', rfl, hrow, hmap, hsz⟩, hb3⟩
  have HB3 : Hid (Below w.heap.size w x3) := HB2.out.trans (hb3.mono HB2.out.size)
  have hO3 := HO2.out.stays hb3
  have hR3 := HR2.out.stays hb3
  have hx2l : w.heap.size + 1 + 1 < x2.heap.size := HO2.out.lt
  have hw0l : w.heap.size + 1 + 1 < W0.heap.size := hlt
  have b0 := hO3.cell 0 rfl
  have b1 := hO3.cell 1 rfl
  have b2 := hO3.cell 2 rfl
  have b3 := hO3.cell 3 rfl
  have b4 := hO3.cell 4 rfl
  have z4 := hO3.frozen 4
  have a0 := hR3.cell 0 rfl
  have a1 := hR3.cell 1 rfl
  have a2 := hR3.cell 2 rfl
  have a3 := hR3.cell 3 rfl
  have a4 := hR3.cell 4 rfl
  have e0 := hR3.frozen 0
  have e1 := hR3.frozen 1
  have e2 := hR3.frozen 2
  have e3 := hR3.frozen 3
  have e4 := hR3.frozen 4
  have HUl : Hid (un = l'.length) := by
    show _ = _
    have h1 := congrArg List.length hmap
    rw [List.length_map, List.length_map, HLu.out] at h1
    exact h1.symm
  have HSt : Hid (StoAt x3 (w.heap.size + 1 + 1 + 1) (some ⟨g, 0, none⟩) n n X (some ⟨g', 0, none⟩) n' n' Y (some ⟨gu, 0, none⟩) un un l') := ⟨(HD2.out.1.below hb3).low (by omega), (HD2.out.2.1.below hb3).low (by omega), fun q h1 h2 => by
    have e1 : g = q := by simpa using h1
    have e2 : g' = q := by simpa using h2
    exact HD2.out.2.2 (by omega), hrow.low (by omega), HUl.out⟩
  have HM : Hid (l'.map UE.u = l.map UE.u ∧ ∀ e ∈ l', e.n ≤ 1048576) := ⟨hmap, hsz⟩
  clear hb3 hrow hmap hsz hO3 hR3 HO2 HR2 HD2
  go_wp2
  refine bodyPost_ret (v := .agg #[.slice (some ⟨g, 0, none⟩) n n, .slice (some ⟨g', 0, none⟩) n' n', .int .i64 ep, .int .i64 nx, .slice (some ⟨gu, 0, none⟩) un un]) (by simp [results, Tryz.f7, go_sem, a0, a1, a2, a3, a4]) rfl ?_
  refine ⟨⟨g, g', gu, l', rfl, ?_, HM.out⟩, ?_⟩
  · exact (((((HSt.out.setLow (by omega) _).setLow (by omega) _).setLow (by omega) _).setLow (by omega) _).setLow (by omega) _ |>.setLow (by omega) _).low (by omega)
  · exact (((((HB3.out.setCell (by dsimp only; omega) _).setCell (by dsimp only; omega) _).setCell (by dsimp only; omega) _).setCell (by dsimp only; omega) _).setCell (by dsimp only; omega) _).setCell (by dsimp only; omega) _

end Go.Proofs.YtenkpgnkkkgdmatGreatDoor

namespace Go.Proofs.YtenkpgnkkkgdmatGreatDoor
open Go.RowKit
set_option linter.unusedVariables false

set_option maxRecDepth 10000 in
set_option maxHeartbeats 1600000 in
theorem eqUp_same (x y : UE) (w : World) (hx : Seg w x.a x.n x.u.zs) (hy : Seg w y.a y.n y.u.zs) (hu : x.u = y.u) (hl : x.n ≤ 1099511627776) :
    Calls Tryz.prog 63 #[.agg #[.string x.u.id, .int .i64 x.u.want, .slice x.a x.n x.c, .bool x.u.done], .agg #[.string y.u.id, .int .i64 y.u.want, .slice y.a y.n y.c, .bool y.u.done]] w fun r w' => r = .returned (.bool true) ∧ Below w.heap.size w w' := by
  obtain ⟨u, a, n, c⟩ := x
  obtain ⟨u', b, m, d⟩ := y
  dsimp only at *
  subst hu
  obtain rfl : n = m := by rw [← hx.1, ← hy.1]
  have HX : Hid (Seg w a n u.zs) := hx
  have HY : Hid (Seg w b n u.zs) := hy
  clear hx hy
  have n1 : (u.want != u.want) = false := by simp
  have n2 : (u.id.toList != u.id.toList) = false := by simp
  have n3 : (u.done != u.done) = false := by simp
  go_enter Tryz.func63, Tryz.ntmps63
  go_wp2_with fail
  have hba : Below w.heap.size w ((w.alloc (.cells #[.string u.id, .int .i64 u.want, .slice a n c, .bool u.done] 66)).alloc (.cells #[.string u.id, .int .i64 u.want, .slice b n d, .bool u.done] 66)) := ((Below.refl _ _).alloc (Nat.le_refl _) _).alloc (by simp) _
  refine (eqByteS_same a b n c d u.zs _ (HX.out.below hba) (HY.out.below hba) hl).mono ?_
  rintro r x3 ⟨rfl, st3⟩
  have HB3 : Hid (Below w.heap.size w x3) := Still.below st3 hba
  clear hba
  obtain ⟨k, hk⟩ := st3
  subst hk
  go_wp2
  go_ret
  exact ⟨rfl, HB3.out⟩

set_option maxRecDepth 10000 in
set_option maxHeartbeats 1600000 in
theorem eqUpS_same (a : Option Addr) (n c lo : Nat) (l : List UE) (b : Option Addr) (m d lo' : Nat) (l' : List UE) (w : World) (h : UpRow w lo (.slice a n c) l) (h' : UpRow w lo' (.slice b m d) l') (hn : n = l.length) (hm : m = l'.length) (he : l.map UE.u = l'.map UE.u) (hl : n ≤ 1099511627776) (hz : ∀ e ∈ l, e.n ≤ 1099511627776) :
    Calls Tryz.prog 32 #[.slice a n c, .slice b m d] w fun e w' => e = .returned (.bool true) ∧ Below w.heap.size w w' := by
  obtain rfl : n = m := by
    have := congrArg List.length he
    rw [List.length_map, List.length_map] at this
    omega
  have HX : Hid (∀ W, Below w.heap.size w W → UpRow W lo (.slice a n c) l ∧ UpRow W lo' (.slice b n d) l') := fun W hb => ⟨h.stays hb, h'.stays hb⟩
  have HN : Hid (n = l.length) := hn
  have HM : Hid (n = l'.length) := hm
  have HE : Hid (l.map UE.u = l'.map UE.u) := he
  have HZ : Hid (∀ e ∈ l, e.n ≤ 1099511627776) := hz
  clear h h' hn hm he hz
  have hne : ((n : Int) != (n : Int)) = false := by simp
  go_enter Tryz.func32, Tryz.ntmps32
  go_wp2
  go_loopw [5] (fun i wr => ∃ k : Nat, k ≤ n ∧ i = .int .i64 k ∧ Hid (Below w.heap.size w wr)) (fun i _ => n - (intOf i).toNat)
  case atStart => exact ⟨0, Nat.zero_le _, rfl, Below.refl _ _⟩
  case round =>
    obtain ⟨k, hk, rfl, HW⟩ := hrel
    by_cases hlt : k < n
    · have hkl : k < l.length := by rw [← HN.out]; exact hlt
      have hkm : k < l'.length := by rw [← HM.out]; exact hlt
      obtain ⟨g, rfl, g0, g1, g2, g3, _⟩ := (HX.out _ HW.out).1.at HN.out hkl
      obtain ⟨q, rfl, q0, q1, q2, q3, _⟩ := (HX.out _ HW.out).2.at HM.out hkm
      have HU : Hid ((l[k]).u = (l'[k]).u) := by
        show _ = _
        have h1 := congrArg (fun z => z[k]?) HE.out
        simpa only [List.getElem?_map, List.getElem?_eq_getElem hkl, List.getElem?_eq_getElem hkm, Option.map_some, Option.some.injEq] using h1
      have HC : Hid (∀ P : Past wr, Calls Tryz.prog 63 #[.agg #[.string (l[k]).u.id, .int .i64 (l[k]).u.want, .slice (l[k]).a (l[k]).n (l[k]).c, .bool (l[k]).u.done], .agg #[.string (l'[k]).u.id, .int .i64 (l'[k]).u.want, .slice (l'[k]).a (l'[k]).n (l'[k]).c, .bool (l'[k]).u.done]] P.world fun r w' => r = .returned (.bool true) ∧ Below P.world.heap.size P.world w') := fun P => by
        have hb := HW.out.trans (P.below.mono HW.out.size)
        exact eqUp_same (l[k]) (l'[k]) P.world ((HX.out _ hb).1.2.1 _ (List.getElem_mem hkl)).seg ((HX.out _ hb).2.2.1 _ (List.getElem_mem hkm)).seg HU.out (HZ.out _ (List.getElem_mem hkl))
      have hki : (k : Int) < (n : Int) := by omega
      have hk0 : (0 : Int) ≤ (k : Int) := by omega
      have hgl := lt_of_cell g0
      have hql := lt_of_cell q0
      have x0 : ∀ P : Past wr, P.world.cell? ⟨g, k * 4, none⟩ = some (.string (l[k]).u.id) := fun P => P.cell hgl g0
      have x1 : ∀ P : Past wr, P.world.cell? ⟨g, k * 4 + 1, none⟩ = some (.int .i64 (l[k]).u.want) := fun P => P.cell hgl g1
      have x2 : ∀ P : Past wr, P.world.cell? ⟨g, k * 4 + 2, none⟩ = some (.slice (l[k]).a (l[k]).n (l[k]).c) := fun P => P.cell hgl g2
      have x3 : ∀ P : Past wr, P.world.cell? ⟨g, k * 4 + 3, none⟩ = some (.bool (l[k]).u.done) := fun P => P.cell hgl g3
      have y0 : ∀ P : Past wr, P.world.cell? ⟨q, k * 4, none⟩ = some (.string (l'[k]).u.id) := fun P => P.cell hql q0
      have y1 : ∀ P : Past wr, P.world.cell? ⟨q, k * 4 + 1, none⟩ = some (.int .i64 (l'[k]).u.want) := fun P => P.cell hql q1
      have y2 : ∀ P : Past wr, P.world.cell? ⟨q, k * 4 + 2, none⟩ = some (.slice (l'[k]).a (l'[k]).n (l'[k]).c) := fun P => P.cell hql q2
      have y3 : ∀ P : Past wr, P.world.cell? ⟨q, k * 4 + 3, none⟩ = some (.bool (l'[k]).u.done) := fun P => P.cell hql q3
      have hnp := past_some wr
      clear g0 g1 g2 g3 q0 q1 q2 q3 HU
      generalize l[k] = x at *
      generalize l'[k] = y at *
      go_wp2_with fail
      refine wp_region_past (by kernel_rfl) (by kernel_rfl) ?_
      repeat (quiet_step ((first | (go_at_call 63; with_reducible exact calls_past (HC.out _)) | fail)))
      refine wpQuiet_nil ?_
      rintro _ ⟨z, rfl⟩
      have HB3 : Hid (Below w.heap.size w z.world) := HW.out.trans (z.below.mono HW.out.size)
      go_wp2
      go_roundw
      case rel => exact ⟨k + 1, by omega, by go_num, HB3⟩
      case measure => simp [intOf]; omega
    · go_wp2
      go_ret
      exact ⟨rfl, HW.out⟩

end Go.Proofs.YtenkpgnkkkgdmatGreatDoor

namespace Go.Proofs.YtenkpgnkkkgdmatGreatDoor
open Go.RowKit
set_option linter.unusedVariables false

set_option maxRecDepth 10000 in
set_option maxHeartbeats 1600000 in
theorem eqStore_same (a b : Option Addr) (n ca cb : Nat) (X : List ByteArray) (a' b' : Option Addr) (n' ca' cb' : Nat) (Y : List ByteArray) (ep nx : Int) (ua : Option Addr) (un uc lo : Nat) (l : List UE) (va : Option Addr) (vn vc lo' : Nat) (l' : List UE) (w : World) (h1 : Strs w a n X) (h2 : Strs w b n X) (h3 : Strs w a' n' Y) (h4 : Strs w b' n' Y) (hu : UpRow w lo (.slice ua un uc) l) (hv : UpRow w lo' (.slice va vn vc) l') (hun : un = l.length) (hvn : vn = l'.length) (he : l.map UE.u = l'.map UE.u) (hn : n ≤ 1099511627776) (hn' : n' ≤ 1099511627776) (hul : un ≤ 1099511627776) (hz : ∀ e ∈ l, e.n ≤ 1099511627776) :
    Calls Tryz.prog 9 #[.agg #[.slice a n ca, .slice a' n' ca', .int .i64 ep, .int .i64 nx, .slice ua un uc], .agg #[.slice b n cb, .slice b' n' cb', .int .i64 ep, .int .i64 nx, .slice va vn vc]] w fun r w' => r = .returned (.bool true) ∧ Below w.heap.size w w' := by
  obtain ⟨w0, hw0⟩ : ∃ w0, (w.alloc (.cells #[.slice a n ca, .slice a' n' ca', .int .i64 ep, .int .i64 nx, .slice ua un uc] 32)).alloc (.cells #[.slice b n cb, .slice b' n' cb', .int .i64 ep, .int .i64 nx, .slice va vn vc] 32) = w0 := ⟨_, rfl⟩
  have HE : Hid ((w.alloc (.cells #[.slice a n ca, .slice a' n' ca', .int .i64 ep, .int .i64 nx, .slice ua un uc] 32)).alloc (.cells #[.slice b n cb, .slice b' n' cb', .int .i64 ep, .int .i64 nx, .slice va vn vc] 32) = w0) := hw0
  have HB : Hid (Below w.heap.size w w0) := by show Below _ _ _; rw [← hw0]; exact ((Below.refl _ _).alloc (Nat.le_refl _) _).alloc (by simp) _
  have HP : Hid (BoxN w0 w.heap.size 32 [.slice a n ca, .slice a' n' ca', .int .i64 ep, .int .i64 nx, .slice ua un uc]) := by show BoxN _ _ _ _; rw [← hw0]; exact (BoxN.new _ _ _).alloc _
  have HQ : Hid (BoxN w0 (w.heap.size + 1) 32 [.slice b n cb, .slice b' n' cb', .int .i64 ep, .int .i64 nx, .slice va vn vc]) := by
    show BoxN _ _ _ _
    rw [← hw0]
    have := BoxN.new (w.alloc (.cells #[.slice a n ca, .slice a' n' ca', .int .i64 ep, .int .i64 nx, .slice ua un uc] 32)) 32 [.slice b n cb, .slice b' n' cb', .int .i64 ep, .int .i64 nx, .slice va vn vc]
    rw [World.size_alloc] at this
    exact this
  have HX : Hid (∀ W, Below w0.heap.size w0 W → BoxN W w.heap.size 32 [.slice a n ca, .slice a' n' ca', .int .i64 ep, .int .i64 nx, .slice ua un uc] ∧ BoxN W (w.heap.size + 1) 32 [.slice b n cb, .slice b' n' cb', .int .i64 ep, .int .i64 nx, .slice va vn vc] ∧ Strs W a n X ∧ Strs W b n X ∧ Strs W a' n' Y ∧ Strs W b' n' Y ∧ UpRow W lo (.slice ua un uc) l ∧ UpRow W lo' (.slice va vn vc) l' ∧ Below w.heap.size w W) := fun W hb => ⟨HP.out.stays hb, HQ.out.stays hb, (h1.below HB.out).below hb, (h2.below HB.out).below hb, (h3.below HB.out).below hb, (h4.below HB.out).below hb, (hu.stays HB.out).stays hb, (hv.stays HB.out).stays hb, HB.out.trans (hb.mono HB.out.size)⟩
  have HU : Hid (un = l.length ∧ vn = l'.length ∧ l.map UE.u = l'.map UE.u ∧ ∀ e ∈ l, e.n ≤ 1099511627776) := ⟨hun, hvn, he, hz⟩
  clear hw0 HB HP HQ h1 h2 h3 h4 hu hv hun hvn he hz
  have HA0 : Hid (Below w0.heap.size w0 w0) := Below.refl _ _
  have x0 := (HX.out _ HA0.out).1.cell 0 rfl
  have x1 := (HX.out _ HA0.out).1.cell 1 rfl
  have y0 := (HX.out _ HA0.out).2.1.cell 0 rfl
  have y1 := (HX.out _ HA0.out).2.1.cell 1 rfl
  have ne1 : (ep != ep) = false := by simp
  have ne2 : (nx != nx) = false := by simp
  go_enter Tryz.func9, Tryz.ntmps9
  go_upto_region 1 with fail
  rw [HE.out]
  clear HE
  go_wp2_with fail
  refine (eqDisk_same a b n ca cb X a' b' n' ca' cb' Y w0 (HX.out _ HA0.out).2.2.1 (HX.out _ HA0.out).2.2.2.1 (HX.out _ HA0.out).2.2.2.2.1 (HX.out _ HA0.out).2.2.2.2.2.1 hn hn').mono ?_
  rintro _ W1 ⟨rfl, hb1⟩
  have HB1 : Hid (Below w0.heap.size w0 W1) := hb1
  clear hb1 x0 x1 y0 y1
  have c2 := (HX.out _ HB1.out).1.cell 2 rfl
  have c3 := (HX.out _ HB1.out).1.cell 3 rfl
  have c4 := (HX.out _ HB1.out).1.cell 4 rfl
  have d2 := (HX.out _ HB1.out).2.1.cell 2 rfl
  have d3 := (HX.out _ HB1.out).2.1.cell 3 rfl
  have d4 := (HX.out _ HB1.out).2.1.cell 4 rfl
  go_wp2_with fail
  refine (eqUpS_same ua un uc lo l va vn vc lo' l' W1 (HX.out _ HB1.out).2.2.2.2.2.2.1 (HX.out _ HB1.out).2.2.2.2.2.2.2.1 HU.out.1 HU.out.2.1 HU.out.2.2.1 hul HU.out.2.2.2).mono ?_
  rintro _ W2 ⟨rfl, hb2⟩
  have HB2 : Hid (Below w.heap.size w W2) := (HX.out _ (HB1.out.trans (hb2.mono HB1.out.size))).2.2.2.2.2.2.2.2
  clear hb2
  go_wp2_with fail
  go_ret
  exact ⟨rfl, HB2.out⟩

end Go.Proofs.YtenkpgnkkkgdmatGreatDoor
