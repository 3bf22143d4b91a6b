/- The laws' copy of a disk. What the laws' own functions do with stores: the size, the copy. Answers that wait: three numbers each; rows of them in memory, rows that a call has made. No statement of the program but its table of types. An answer as the laws hand it on: its copy, held against itself. Answers that wait, as the laws hand them on: their number, their copy. A sector of a store in memory is put; its variable's cells are written. No statement of the program but its table of types. Rows whose blocks are as they were. No program in it. What is written lies between two bounds. No program in it. -/
import Derived.Test.YtclkfjlnhcccdaaGreatDoorM06
import Derived.Test.YtclkfjlnhcccdaaGreatDoorM04
import Derived.Test.YtclkfjlnhcccdaaGreatDoorM05
import Derived.Deep.CutBlock
import Derived.Test.YtclkfjlnhcccdaaGreatDoorM01
import Derived.WalkKit
import Derived.Deep.RegionWith
import Derived.Test.YtclkfjlnhcccdaaGreatDoorM03
namespace Go.Proofs.YtclkfjlnhcccdaaGreatDoor
open Go.RowKit
set_option linter.unusedVariables false

set_option maxHeartbeats 800000 in
theorem toDisk_any (a : Option Addr) (n ca : Nat) (xs : List ByteArray) (a' : Option Addr) (n' ca' : Nat) (ys : List ByteArray) (w : World) (h1 : Strs w a n xs) (h3 : Strs w a' n' ys) (hn : n ≤ 1048576) (hn' : n' ≤ 1048576) :
    Calls Tryz.prog 46 #[.agg #[.slice a n ca, .slice a' n' ca']] w fun r w' => ∃ g g', r = .returned (.agg #[.slice (some ⟨g, 0, none⟩) n n, .slice (some ⟨g', 0, none⟩) n' n']) ∧ g ≠ g' ∧ OwnSt w' w.heap.size (.slice (some ⟨g, 0, none⟩) n n) n xs ∧ OwnSt w' w.heap.size (.slice (some ⟨g', 0, none⟩) n' n') n' ys ∧ Below w.heap.size w w' := by
  have HX : Hid (∀ W, Below w.heap.size w W → Strs W a n xs ∧ Strs W a' n' ys) := fun W h => ⟨h1.below h, h3.below h⟩
  clear h1 h3
  go_enter Tryz.func46, Tryz.ntmps46
  go_wp2_with fail
  obtain ⟨w0, hw0⟩ : ∃ w0, ((w.alloc (Obj.cells #[Value.slice a n ca, Value.slice a' n' ca'] 24)).alloc (Obj.cells #[Value.slice none 0 0, Value.slice none 0 0] 32)).alloc (Obj.cells #[Value.slice none 0 0, Value.slice none 0 0] 32) = w0 := ⟨_, rfl⟩
  have HB : Hid (Below w.heap.size w w0) := by
    rw [← hw0]
    exact (((Below.refl _ _).alloc (Nat.le_refl _) _).alloc (by simp) _).alloc (by simp; omega) _
  have HZ : Hid (w0.heap.size = w.heap.size + 3) := by show _ = _; rw [← hw0]; simp
  have HA : Hid (Box2R w0 w.heap.size 24 (.slice a n ca) (.slice a' n' ca')) := by
    rw [← hw0]
    exact ((Box2R.new _ _ _ _).alloc _).alloc _
  have HR : Hid (Box2R w0 (w.heap.size + 1) 32 (.slice none 0 0) (.slice none 0 0)) := by
    have := (Box2R.new (w.alloc (Obj.cells #[Value.slice a n ca, Value.slice a' n' ca'] 24)) 32 (.slice none 0 0) (.slice none 0 0)).alloc (Obj.cells #[Value.slice none 0 0, Value.slice none 0 0] 32)
    rw [World.size_alloc, hw0] at this
    exact this
  have HO : Hid (Box2R w0 (w.heap.size + 1 + 1) 32 (.slice none 0 0) (.slice none 0 0)) := by
    have := Box2R.new ((w.alloc (Obj.cells #[Value.slice a n ca, Value.slice a' n' ca'] 24)).alloc (Obj.cells #[Value.slice none 0 0, Value.slice none 0 0] 32)) 32 (.slice none 0 0) (.slice none 0 0)
    rw [World.size_alloc, World.size_alloc, hw0] at this
    exact this
  rw [hw0]
  clear hw0
  refine (toStrS_own a n ca xs _ (HX.out _ HB.out).1 hn).mono ?_
  rintro r x1 ⟨rfl, ho1, hb1⟩
  generalize hg : w0.heap.size = g at *
  have HO1 : Hid (OwnSt x1 w.heap.size (.slice (some ⟨g, 0, none⟩) n n) n xs) := ho1.low (by have := HZ.out; omega)
  have HB1 : Hid (Below w.heap.size w x1) := HB.out.trans (hb1.mono (by have := HZ.out; omega))
  have HA1 : Hid (Box2R x1 w.heap.size 24 (.slice a n ca) (.slice a' n' ca')) := HA.out.stays (by rw [hg]; exact hb1)
  have HV1 : Hid (Box2R x1 (w.heap.size + 1 + 1) 32 (.slice none 0 0) (.slice none 0 0)) := HO.out.stays (by rw [hg]; exact hb1)
  have hgg : w.heap.size + 1 + 1 < g := by have := HZ.out; omega
  have HR1 : Hid (Box2R x1 (w.heap.size + 1) 32 (.slice none 0 0) (.slice none 0 0)) := HR.out.stays (by rw [hg]; exact hb1)
  clear ho1 hb1 HA HO HB HZ HR hg
  obtain ⟨c0, c1⟩ := HA1.out.cells
  obtain ⟨d0, d1⟩ := HV1.out.cells
  have f0 := HV1.out.frozen 0
  go_wp2_with fail
  obtain ⟨x2, hx2⟩ : ∃ x2, x1.setCell ⟨w.heap.size + 1 + 1, 0, none⟩ (.slice (some ⟨g, 0, none⟩) n n) = x2 := ⟨_, rfl⟩
  have HO2 : Hid (OwnSt x2 w.heap.size (.slice (some ⟨g, 0, none⟩) n n) n xs) := by
    rw [← hx2]
    exact HO1.out.setCell (by simp [blkOf]; omega) _
  have HB2 : Hid (Below w.heap.size w x2) := by
    rw [← hx2]
    exact HB1.out.setCell (by dsimp only; omega) _
  have HA2 : Hid (Box2R x2 w.heap.size 24 (.slice a n ca) (.slice a' n' ca')) := by
    rw [← hx2]
    exact HA1.out.other (by omega) _
  have HV2 : Hid (Box2R x2 (w.heap.size + 1 + 1) 32 (.slice (some ⟨g, 0, none⟩) n n) (.slice none 0 0)) := by
    rw [← hx2]
    exact HV1.out.set0 _
  have HR2 : Hid (Box2R x2 (w.heap.size + 1) 32 (.slice none 0 0) (.slice none 0 0)) := by
    rw [← hx2]
    exact HR1.out.other (by omega) _
  rw [hx2]
  clear hx2 HR1 HO1 HB1 HA1 HV1 c0 c1 d0 d1 f0
  refine (toStrS_own a' n' ca' ys _ (HX.out _ HB2.out).2 hn').mono ?_
  rintro r x3 ⟨rfl, ho3, hb3⟩
  have hgx : g < x2.heap.size := (HO2.out.lt g rfl).2
  generalize hg' : x2.heap.size = g' at *
  have HO3 : Hid (OwnSt x3 w.heap.size (.slice (some ⟨g, 0, none⟩) n n) n xs) := HO2.out.below (by rw [hg']; exact hb3)
  have HP3 : Hid (OwnSt x3 w.heap.size (.slice (some ⟨g', 0, none⟩) n' n') n' ys) := ho3.low (by omega)
  have HB3 : Hid (Below w.heap.size w x3) := HB2.out.trans (hb3.mono (by omega))
  have HV3 : Hid (Box2R x3 (w.heap.size + 1 + 1) 32 (.slice (some ⟨g, 0, none⟩) n n) (.slice none 0 0)) := HV2.out.stays (by rw [hg']; exact hb3)
  have HR3 : Hid (Box2R x3 (w.heap.size + 1) 32 (.slice none 0 0) (.slice none 0 0)) := HR2.out.stays (by rw [hg']; exact hb3)
  clear ho3 hb3 HA2 HV2 HO2 HB2 HR2 hg'
  obtain ⟨d0, d1⟩ := HV3.out.cells
  have f1 := HV3.out.frozen 1
  obtain ⟨e0, e1⟩ := (HV3.out.set1 (.slice (some ⟨g', 0, none⟩) n' n')).cells
  obtain ⟨r0, r1⟩ := HR3.out.cells
  have s0 := HR3.out.frozen 0
  have s1 := HR3.out.frozen 1
  go_wp2_with fail
  refine bodyPost_ret (v := .agg #[.slice (some ⟨g, 0, none⟩) n n, .slice (some ⟨g', 0, none⟩) n' n']) (by simp [results, Tryz.f46, go_sem, r0, r1]) rfl ?_
  refine ⟨g, g', rfl, by omega, ((HO3.out.setCell (by simp [blkOf]; omega) _).setCell (by simp [blkOf]; omega) _).setCell (by simp [blkOf]; omega) _, ((HP3.out.setCell (by simp [blkOf]; omega) _).setCell (by simp [blkOf]; omega) _).setCell (by simp [blkOf]; omega) _, ((HB3.out.setCell (by dsimp only; omega) _).setCell (by dsimp only; omega) _).setCell (by dsimp only; omega) _⟩

end Go.Proofs.YtclkfjlnhcccdaaGreatDoor

namespace Go.Proofs.YtclkfjlnhcccdaaGreatDoor
open Go.RowKit
set_option linter.unusedVariables false

/-- How great a store may be. -/
def SzS (n : Nat) (X : List ByteArray) (n' : Nat) (Y : List ByteArray) (un : Nat) (l : List UE) : Prop := n ≤ 1048576 ∧ n' ≤ 1048576 ∧ (∀ x ∈ X, x.size ≤ 1048576) ∧ (∀ y ∈ Y, y.size ≤ 1048576) ∧ SzU un l

set_option maxRecDepth 10000 in
set_option maxHeartbeats 800000 in
theorem szStore_any (a : Option Addr) (n ca : Nat) (X : List ByteArray) (a' : Option Addr) (n' ca' : Nat) (Y : List ByteArray) (ep nx : Int) (ua : Option Addr) (un uc : Nat) (l : List UE) (w : World) (h1 : Strs w a n X) (h2 : Strs w a' n' Y) (hu : UpsI w ua un l) (hn : n ≤ maxLen) (hn' : n' ≤ maxLen) (hun : un ≤ maxLen) :
    Calls Tryz.prog 20 #[.agg #[.slice a n ca, .slice a' n' ca', .int .i64 ep, .int .i64 nx, .slice ua un uc], .int .i64 1048576] w fun r w' => (∃ L : Int, r = .returned (.int .i64 L) ∧ (L < 0 ∨ (SzS n X n' Y un l ∧ 0 ≤ L ∧ L ≤ 1048576))) ∧ Below w.heap.size w w' := by
  have HX : Hid (∀ W, Below w.heap.size w W → Strs W a n X ∧ Strs W a' n' Y ∧ UpsI W ua un l) := fun W h => ⟨h1.below h, h2.below h, hu.below h⟩
  have HA : Hid (BoxN (w.alloc (.cells #[.slice a n ca, .slice a' n' ca', .int .i64 ep, .int .i64 nx, .slice ua un uc] 27)) w.heap.size 27 [.slice a n ca, .slice a' n' ca', .int .i64 ep, .int .i64 nx, .slice ua un uc]) := BoxN.new _ _ _
  have HB : Hid (Below w.heap.size w (w.alloc (.cells #[.slice a n ca, .slice a' n' ca', .int .i64 ep, .int .i64 nx, .slice ua un uc] 27))) := (Below.refl _ _).alloc (Nat.le_refl _) _
  clear h1 h2 hu
  go_enter Tryz.func20, Tryz.ntmps20
  go_wp2_with fail
  refine (szDisk_any a n ca X a' n' ca' Y 1048576 _ (HX.out _ HB.out).1 (HX.out _ HB.out).2.1 (by omega) (by omega) hn hn').mono ?_
  rintro _ x1 ⟨⟨v, rfl, hv1, hv2⟩, hb1⟩
  have HV : Hid (v ≤ 1048576 ∧ (0 ≤ v → v + (n + strBytes X) + (n' + strBytes Y) ≤ 1048576)) := ⟨hv1, hv2⟩
  have HB1 : Hid (Below w.heap.size w x1) := HB.out.trans (hb1.mono HB.out.size)
  have c4 := (HA.out.stays hb1).cell 4 rfl
  clear hb1 hv1 hv2
  by_cases hneg : v < 0
  · go_wp2_with fail
    go_ret
    exact ⟨⟨-1, rfl, .inl (by omega)⟩, HB1.out⟩
  have hv0 : 0 ≤ v := by omega
  have hvm : v ≤ 1048576 := HV.out.1
  go_wp2_with fail
  refine (szUpS_any ua un uc l v x1 (HX.out _ HB1.out).2.2 hv0 hvm hun).mono ?_
  rintro _ x2 ⟨⟨L, rfl, hL⟩, hb2⟩
  have HL : Hid (L < 0 ∨ (SzU un l ∧ 0 ≤ L ∧ L ≤ v)) := hL
  have HB2 : Hid (Below w.heap.size w x2) := HB1.out.trans (hb2.mono HB1.out.size)
  clear hb2 hL c4
  by_cases hneg2 : L < 0
  · go_wp2_with fail
    go_ret
    exact ⟨⟨-1, rfl, .inl (by omega)⟩, HB2.out⟩
  have HS : Hid (SzS n X n' Y un l) := by
    have h1 := HV.out.2 hv0
    refine ⟨by omega, by omega, fun x hx => ?_, fun y hy => ?_, ?_⟩
    · have := strBytes_mem X x hx; omega
    · have := strBytes_mem Y y hy; omega
    · rcases HL.out with h | h
      · exact absurd h hneg2
      · exact h.1
  go_wp2_with fail
  go_ret
  exact ⟨⟨L, rfl, .inr ⟨HS.out, by omega, by rcases HL.out with h | h <;> omega⟩⟩, HB2.out⟩

set_option maxRecDepth 10000 in
set_option maxHeartbeats 1600000 in
theorem toStore_any (a : Option Addr) (n ca : Nat) (X : List ByteArray) (a' : Option Addr) (n' ca' : Nat) (Y : List ByteArray) (ep nx : Int) (ua : Option Addr) (un uc : Nat) (l : List UE) (w : World) (h1 : Strs w a n X) (h2 : Strs w a' n' Y) (hu : UpsI w ua un l) (hs : SzS n X n' Y un l) :
    Calls Tryz.prog 25 #[.agg #[.slice a n ca, .slice a' n' ca', .int .i64 ep, .int .i64 nx, .slice ua un uc]] w fun r w' => (∃ g g' gu l', r = .returned (.agg #[.slice (some ⟨g, 0, none⟩) n n, .slice (some ⟨g', 0, none⟩) n' n', .int .i64 ep, .int .i64 nx, .slice (some ⟨gu, 0, none⟩) un un]) ∧ StoAt w' w.heap.size (some ⟨g, 0, none⟩) n n X (some ⟨g', 0, none⟩) n' n' Y (some ⟨gu, 0, none⟩) un un l' ∧ l'.map UE.u = l.map UE.u ∧ ∀ e ∈ l', e.n ≤ 1048576) ∧ Below w.heap.size w w' := by
  have HX : Hid (∀ W, Below w.heap.size w W → Strs W a n X ∧ Strs W a' n' Y ∧ UpsI W ua un l) := fun W h => ⟨h1.below h, h2.below h, hu.below h⟩
  have HS : Hid (SzS n X n' Y un l) := hs
  have HLu : Hid (l.length = un) := hu.1
  clear h1 h2 hu hs
  obtain ⟨W0, hW0⟩ : ∃ W0, ((w.alloc (.cells #[.slice a n ca, .slice a' n' ca', .int .i64 ep, .int .i64 nx, .slice ua un uc] 27)).alloc (.cells #[.slice none 0 0, .slice none 0 0, .int .i64 0, .int .i64 0, .slice none 0 0] 35)).alloc (.cells #[.slice none 0 0, .slice none 0 0, .int .i64 0, .int .i64 0, .slice none 0 0] 35) = W0 := ⟨_, rfl⟩
  have HE : Hid (((w.alloc (.cells #[.slice a n ca, .slice a' n' ca', .int .i64 ep, .int .i64 nx, .slice ua un uc] 27)).alloc (.cells #[.slice none 0 0, .slice none 0 0, .int .i64 0, .int .i64 0, .slice none 0 0] 35)).alloc (.cells #[.slice none 0 0, .slice none 0 0, .int .i64 0, .int .i64 0, .slice none 0 0] 35) = W0) := hW0
  have HB : Hid (Below w.heap.size w W0) := by show Below _ _ _; rw [← hW0]; exact (((Below.refl _ _).alloc (Nat.le_refl _) _).alloc (by simp) _).alloc (by simp; omega) _
  have HI : Hid (BoxN W0 w.heap.size 27 [.slice a n ca, .slice a' n' ca', .int .i64 ep, .int .i64 nx, .slice ua un uc]) := by show BoxN _ _ _ _; rw [← hW0]; exact ((BoxN.new _ _ _).alloc _).alloc _
  have HR : Hid (BoxN W0 (w.heap.size + 1) 35 [.slice none 0 0, .slice none 0 0, .int .i64 0, .int .i64 0, .slice none 0 0]) := by
    show BoxN _ _ _ _
    rw [← hW0]
    have := (BoxN.new (w.alloc (.cells #[.slice a n ca, .slice a' n' ca', .int .i64 ep, .int .i64 nx, .slice ua un uc] 27)) 35 [.slice none 0 0, .slice none 0 0, .int .i64 0, .int .i64 0, .slice none 0 0]).alloc (.cells #[.slice none 0 0, .slice none 0 0, .int .i64 0, .int .i64 0, .slice none 0 0] 35)
    rw [World.size_alloc] at this
    exact this
  have HO : Hid (BoxN W0 (w.heap.size + 1 + 1) 35 [.slice none 0 0, .slice none 0 0, .int .i64 0, .int .i64 0, .slice none 0 0]) := by
    show BoxN _ _ _ _
    rw [← hW0]
    have := BoxN.new ((w.alloc (.cells #[.slice a n ca, .slice a' n' ca', .int .i64 ep, .int .i64 nx, .slice ua un uc] 27)).alloc (.cells #[.slice none 0 0, .slice none 0 0, .int .i64 0, .int .i64 0, .slice none 0 0] 35)) 35 [.slice none 0 0, .slice none 0 0, .int .i64 0, .int .i64 0, .slice none 0 0]
    rw [World.size_alloc, World.size_alloc] at this
    exact this
  clear hW0
  have c0 := HI.out.cell 0 rfl
  have c1 := HI.out.cell 1 rfl
  go_enter Tryz.func25, Tryz.ntmps25
  go_upto_region 2 with fail
  rw [HE.out]
  clear HE
  go_wp2_with fail
  refine (toDisk_any a n ca X a' n' ca' Y W0 (HX.out _ HB.out).1 (HX.out _ HB.out).2.1 HS.out.1 HS.out.2.1).mono ?_
  rintro _ x1 ⟨g, g', rfl, hgg, ho1, ho2, hb1⟩
  have HO1 : Hid (OwnSt x1 W0.heap.size (.slice (some ⟨g, 0, none⟩) n n) n X ∧ OwnSt x1 W0.heap.size (.slice (some ⟨g', 0, none⟩) n' n') n' Y ∧ g ≠ g') := ⟨ho1, ho2, hgg⟩
  have HB1 : Hid (Below W0.heap.size W0 x1) := hb1
  have hi1 := HI.out.stays hb1
  have ho1' := HO.out.stays hb1
  have c2 := hi1.cell 2 rfl
  have c3 := hi1.cell 3 rfl
  have c4 := hi1.cell 4 rfl
  have o0 := ho1'.cell 0 rfl
  have o1 := ho1'.cell 1 rfl
  have o2 := ho1'.cell 2 rfl
  have o3 := ho1'.cell 3 rfl
  have f0 := ho1'.frozen 0
  have f1 := ho1'.frozen 1
  have f2 := ho1'.frozen 2
  have f3 := ho1'.frozen 3
  obtain ⟨x2, hx2⟩ : ∃ x2, ((((x1.setCell ⟨w.heap.size + 1 + 1, 0, none⟩ (.slice (some ⟨g, 0, none⟩) n n)).setCell ⟨w.heap.size + 1 + 1, 1, none⟩ (.slice (some ⟨g', 0, none⟩) n' n')).setCell ⟨w.heap.size + 1 + 1, 2, none⟩ (.int .i64 ep)).setCell ⟨w.heap.size + 1 + 1, 3, none⟩ (.int .i64 nx)) = x2 := ⟨_, rfl⟩
  have HE2 : Hid (((((x1.setCell ⟨w.heap.size + 1 + 1, 0, none⟩ (.slice (some ⟨g, 0, none⟩) n n)).setCell ⟨w.heap.size + 1 + 1, 1, none⟩ (.slice (some ⟨g', 0, none⟩) n' n')).setCell ⟨w.heap.size + 1 + 1, 2, none⟩ (.int .i64 ep)).setCell ⟨w.heap.size + 1 + 1, 3, none⟩ (.int .i64 nx)) = x2) := hx2
  have hlt : w.heap.size + 1 + 1 < W0.heap.size := HO.out.lt
  have hbs : Below W0.heap.size W0 x1 := HB1.out
  have HB2 : Hid (Below w.heap.size w x2) := by
    show Below _ _ _
    rw [← hx2]
    exact ((((HB.out.trans (hbs.mono HB.out.size)).setCell (by dsimp only; omega) _).setCell (by dsimp only; omega) _).setCell (by dsimp only; omega) _).setCell (by dsimp only; omega) _
  have HO2 : Hid (BoxN x2 (w.heap.size + 1 + 1) 35 [.slice (some ⟨g, 0, none⟩) n n, .slice (some ⟨g', 0, none⟩) n' n', .int .i64 ep, .int .i64 nx, .slice none 0 0]) := by
    show BoxN _ _ _ _
    rw [← hx2]
    exact (((ho1'.set 0 _).set 1 _).set 2 _).set 3 _
  have HR2 : Hid (BoxN x2 (w.heap.size + 1) 35 [.slice none 0 0, .slice none 0 0, .int .i64 0, .int .i64 0, .slice none 0 0]) := by
    show BoxN _ _ _ _
    rw [← hx2]
    exact ((((HR.out.stays hb1).other (by omega) _).other (by omega) _).other (by omega) _).other (by omega) _
  have hgs : W0.heap.size ≤ g := (ho1.lt g rfl).1
  have hgs' : W0.heap.size ≤ g' := (ho2.lt g' rfl).1
  have HD2 : Hid (OwnSt x2 W0.heap.size (.slice (some ⟨g, 0, none⟩) n n) n X ∧ OwnSt x2 W0.heap.size (.slice (some ⟨g', 0, none⟩) n' n') n' Y ∧ g ≠ g') := by
    refine ⟨?_, ?_, hgg⟩
    · rw [← hx2]
      exact (((ho1.setCell (by simp [blkOf]; omega) _).setCell (by simp [blkOf]; omega) _).setCell (by simp [blkOf]; omega) _).setCell (by simp [blkOf]; omega) _
    · rw [← hx2]
      exact (((ho2.setCell (by simp [blkOf]; omega) _).setCell (by simp [blkOf]; omega) _).setCell (by simp [blkOf]; omega) _).setCell (by simp [blkOf]; omega) _
  clear hx2 hi1 ho1' hb1 HI HR HO HO1 hgs hgs' ho1 ho2 hgg hbs
  go_wp2_with fail
  rw [HE2.out]
  clear HE2 c0 c1 c2 c3 c4 o0 o1 o2 o3 f0 f1 f2 f3
  refine (toUpS_any ua un uc l x2 (HX.out _ HB2.out).2.2 HS.out.2.2.2.2).mono ?_
  rintro _ x3 ⟨⟨gu, l', rfl, hrow, hmap, hsz⟩, hb3⟩
  have HB3 : Hid (Below w.heap.size w x3) := HB2.out.trans (hb3.mono HB2.out.size)
  have hO3 := HO2.out.stays hb3
  have hR3 := HR2.out.stays hb3
  have hx2l : w.heap.size + 1 + 1 < x2.heap.size := HO2.out.lt
  have hw0l : w.heap.size + 1 + 1 < W0.heap.size := hlt
  have b0 := hO3.cell 0 rfl
  have b1 := hO3.cell 1 rfl
  have b2 := hO3.cell 2 rfl
  have b3 := hO3.cell 3 rfl
  have b4 := hO3.cell 4 rfl
  have z4 := hO3.frozen 4
  have a0 := hR3.cell 0 rfl
  have a1 := hR3.cell 1 rfl
  have a2 := hR3.cell 2 rfl
  have a3 := hR3.cell 3 rfl
  have a4 := hR3.cell 4 rfl
  have e0 := hR3.frozen 0
  have e1 := hR3.frozen 1
  have e2 := hR3.frozen 2
  have e3 := hR3.frozen 3
  have e4 := hR3.frozen 4
  have HUl : Hid (un = l'.length) := by
    show _ = _
    have h1 := congrArg List.length hmap
    rw [List.length_map, List.length_map, HLu.out] at h1
    exact h1.symm
  have HSt : Hid (StoAt x3 (w.heap.size + 1 + 1 + 1) (some ⟨g, 0, none⟩) n n X (some ⟨g', 0, none⟩) n' n' Y (some ⟨gu, 0, none⟩) un un l') := ⟨(HD2.out.1.below hb3).low (by omega), (HD2.out.2.1.below hb3).low (by omega), fun q h1 h2 => by
    have e1 : g = q := by simpa using h1
    have e2 : g' = q := by simpa using h2
    exact HD2.out.2.2 (by omega), hrow.low (by omega), HUl.out⟩
  have HM : Hid (l'.map UE.u = l.map UE.u ∧ ∀ e ∈ l', e.n ≤ 1048576) := ⟨hmap, hsz⟩
  clear hb3 hrow hmap hsz hO3 hR3 HO2 HR2 HD2
  go_wp2
  refine bodyPost_ret (v := .agg #[.slice (some ⟨g, 0, none⟩) n n, .slice (some ⟨g', 0, none⟩) n' n', .int .i64 ep, .int .i64 nx, .slice (some ⟨gu, 0, none⟩) un un]) (by simp [results, Tryz.f25, go_sem, a0, a1, a2, a3, a4]) rfl ?_
  refine ⟨⟨g, g', gu, l', rfl, ?_, HM.out⟩, ?_⟩
  · exact (((((HSt.out.setLow (by omega) _).setLow (by omega) _).setLow (by omega) _).setLow (by omega) _).setLow (by omega) _ |>.setLow (by omega) _).low (by omega)
  · exact (((((HB3.out.setCell (by dsimp only; omega) _).setCell (by dsimp only; omega) _).setCell (by dsimp only; omega) _).setCell (by dsimp only; omega) _).setCell (by dsimp only; omega) _).setCell (by dsimp only; omega) _

end Go.Proofs.YtclkfjlnhcccdaaGreatDoor

namespace Go.Proofs.YtclkfjlnhcccdaaGreatDoor
open Go.RowKit
set_option linter.unusedVariables false

/-- To whom, the status, how much there is. -/
abbrev Hd := Int × Int × Int

/-- The cells of a row. -/
def heCells (l : List Hd) : List Value := l.flatMap fun s => [.int .i64 s.1, .int .i64 s.2.1, .int .i64 s.2.2]

theorem heCells_cons (s : Hd) (l : List Hd) : heCells (s :: l) = .int .i64 s.1 :: .int .i64 s.2.1 :: .int .i64 s.2.2 :: heCells l := rfl

theorem heCells_append (l m : List Hd) : heCells (l ++ m) = heCells l ++ heCells m := by simp [heCells]

theorem heCells_len (l : List Hd) : (heCells l).length = l.length * 3 := by
  induction l with
  | nil => rfl
  | cons f fs ih => rw [heCells_cons]; simp only [List.length_cons, ih]; omega

theorem heCells_at (l : List Hd) : ∀ i (hi : i < l.length), (heCells l)[i * 3]? = some (.int .i64 (l[i]).1) ∧ (heCells l)[i * 3 + 1]? = some (.int .i64 (l[i]).2.1) ∧ (heCells l)[i * 3 + 2]? = some (.int .i64 (l[i]).2.2) := by
  induction l with
  | nil => intro i hi; simp at hi
  | cons f fs ih =>
    intro i hi
    rw [heCells_cons]
    cases i with
    | zero => simp
    | succ i =>
      have := ih i (by simpa using hi)
      rw [show (i + 1) * 3 = i * 3 + 1 + 1 + 1 by omega]
      simpa using this

theorem heCells_one (l : List Hd) : ∀ u ∈ heCells l, u.oneCell' = true := by
  intro u hu
  simp only [heCells, List.mem_flatMap] at hu
  obtain ⟨f, _, hf⟩ := hu
  simp at hf
  rcases hf with rfl | rfl | rfl <;> rfl

theorem heCells_set (l : List Hd) (x y z : Int) : ∀ k, k < l.length → (((heCells l).set (k * 3) (.int .i64 x)).set (k * 3 + 1) (.int .i64 y)).set (k * 3 + 2) (.int .i64 z) = heCells (l.set k (x, y, z)) := by
  induction l with
  | nil => intro k hk; simp at hk
  | cons f fs ih =>
    intro k hk
    rw [heCells_cons]
    cases k with
    | zero => rfl
    | succ k =>
      rw [show (k + 1) * 3 = k * 3 + 1 + 1 + 1 by omega]
      have := ih k (by simpa using hk)
      simp only [List.set_cons_succ]
      rw [this]
      rfl

/-- A number of 64 bits. -/
def i64h (x : Int) : Prop := -9223372036854775808 ≤ x ∧ x ≤ 9223372036854775807

def hd64 (s : Hd) : Prop := i64h s.1 ∧ i64h s.2.1 ∧ i64h s.2.2

/-- The slice (a, n) holds these answers in the world w. -/
def Helds (w : World) (a : Option Addr) (n : Nat) (l : List Hd) : Prop :=
  l.length = n ∧ (∀ s ∈ l, hd64 s) ∧
  (n = 0 ∨ ∃ b off, a = some ⟨b, off, none⟩ ∧ b < w.heap.size ∧ ∀ i (hi : i < l.length), w.cell? ⟨b, off + i * 3, none⟩ = some (.int .i64 (l[i]).1) ∧ w.cell? ⟨b, off + i * 3 + 1, none⟩ = some (.int .i64 (l[i]).2.1) ∧ w.cell? ⟨b, off + i * 3 + 2, none⟩ = some (.int .i64 (l[i]).2.2))

theorem Helds.below {w w' : World} {a : Option Addr} {n : Nat} {l : List Hd} (h : Helds w a n l) (hb : Below w.heap.size w w') : Helds w' a n l := by
  obtain ⟨h1, h2, h3⟩ := h
  refine ⟨h1, h2, ?_⟩
  rcases h3 with h0 | ⟨b, off, ha, hlt, hc⟩
  · exact .inl h0
  · refine .inr ⟨b, off, ha, Nat.lt_of_lt_of_le hlt hb.size, fun i hi => ?_⟩
    have key : ∀ j v, w.cell? ⟨b, j, none⟩ = some v → w'.cell? ⟨b, j, none⟩ = some v := fun j v hv => (hb.cell (p := ⟨b, j, none⟩) hlt).trans hv
    exact ⟨key _ _ (hc i hi).1, key _ _ (hc i hi).2.1, key _ _ (hc i hi).2.2⟩

/-- The cells at one index. -/
theorem Helds.at {w : World} {a : Option Addr} {n : Nat} {l : List Hd} (h : Helds w a n l) {k : Nat} (hk : k < n) : ∃ b off x y z, a = some ⟨b, off, none⟩ ∧ b < w.heap.size ∧ l[k]? = some (x, y, z) ∧ w.cell? ⟨b, off + k * 3, none⟩ = some (.int .i64 x) ∧ w.cell? ⟨b, off + k * 3 + 1, none⟩ = some (.int .i64 y) ∧ w.cell? ⟨b, off + k * 3 + 2, none⟩ = some (.int .i64 z) ∧ hd64 (x, y, z) := by
  obtain ⟨h1, h2, h3⟩ := h
  rcases h3 with h0 | ⟨b, off, ha, hlt, hc⟩
  · omega
  · have hk' : k < l.length := by omega
    have hm := h2 (l[k]) (List.getElem_mem hk')
    exact ⟨b, off, (l[k]).1, (l[k]).2.1, (l[k]).2.2, ha, hlt, List.getElem?_eq_getElem hk', (hc k hk').1, (hc k hk').2.1, (hc k hk').2.2, hm⟩

/-- A slice value that owns these answers, in a block from base on. -/
def OwnH (w : World) (base : Nat) (a : Option Addr) (n cap : Nat) (l : List Hd) : Prop := w.ownsRow base 67 3 (.slice a n cap) n (heCells l) ∧ ∀ s ∈ l, hd64 s

theorem OwnH.len {w : World} {base n cap : Nat} {a : Option Addr} {l : List Hd} (h : OwnH w base a n cap l) : l.length = n := by
  have := h.1.1
  rw [heCells_len] at this
  omega

theorem OwnH.below {w w' : World} {base n cap : Nat} {a : Option Addr} {l : List Hd} (h : OwnH w base a n cap l) (hb : Below w.heap.size w w') : OwnH w' base a n cap l := ⟨own_below h.1 hb, h.2⟩

theorem OwnH.helds {w : World} {base n cap : Nat} {a : Option Addr} {l : List Hd} (h : OwnH w base a n cap l) : Helds w a n l := by
  have hl := h.len
  refine ⟨hl, h.2, ?_⟩
  rcases h.1.2 with ⟨_, hn⟩ | ⟨g, cap', cur, he, hb, hg, hn, hm, hc, ht⟩
  · exact .inl hn
  · injection he with e1 e2 e3
    subst e1
    refine .inr ⟨g, 0, rfl, (Array.getElem?_eq_some_iff.1 hg).1, fun i hi => ?_⟩
    have hi' : i < n := by omega
    have hget : ∀ j, j < n * 3 → w.cell? ⟨g, j, none⟩ = (heCells l)[j]? := by
      intro j hj
      rw [cell_of_row w g j cur _ (0, 0) hg, ← ht, List.getElem?_take, if_pos hj, Array.getElem?_toList]
    have := heCells_at l i hi
    rw [Nat.zero_add, hget (i * 3) (by omega), hget (i * 3 + 1) (by omega), hget (i * 3 + 2) (by omega)]
    exact this

theorem OwnH.lt {w : World} {base n cap : Nat} {a : Option Addr} {l : List Hd} (h : OwnH w base a n cap l) : ∀ k, a.map (·.block) = some k → base ≤ k ∧ k < w.heap.size := by
  intro k hk
  cases a with
  | none => simp at hk
  | some p => exact h.1.lt k (by simpa [Value.ownBlock] using hk)

theorem OwnH.kept {w w' : World} {base n cap : Nat} {a : Option Addr} {l : List Hd} {r : Option Nat} (h : OwnH w base a n cap l) (hg : w.grownBy w' r) (hr : ∀ k, r = some k → a.map (·.block) ≠ some k) : OwnH w' base a n cap l := by
  refine ⟨h.1.kept hg ?_, h.2⟩
  cases a with
  | none => exact .inl rfl
  | some p =>
    refine .inr ?_
    cases r with
    | none => simp [Value.ownBlock]
    | some k => have := hr k rfl; simpa [Value.ownBlock] using this

theorem OwnH.low {w : World} {base b n cap : Nat} {a : Option Addr} {l : List Hd} (h : OwnH w base a n cap l) (hb : b ≤ base) : OwnH w b a n cap l := by
  refine ⟨⟨h.1.1, ?_⟩, h.2⟩
  rcases h.1.2 with h0 | ⟨g, cap', cur, he, hg, r⟩
  · exact .inl h0
  · exact .inr ⟨g, cap', cur, he, Nat.le_trans hb hg, r⟩

theorem made_threeH (v : Value) (n : Nat) : (madeCells #[v, v, v] n).toList = List.replicate n v := by
  apply List.ext_getElem?
  intro j
  by_cases hj : j < n
  · have : j % 3 = 0 ∨ j % 3 = 1 ∨ j % 3 = 2 := by omega
    rcases this with h | h | h <;> simp [madeCells, hj, h]
  · simp [madeCells, hj]

theorem heCells_nil (n : Nat) : heCells (List.replicate n (0, 0, 0)) = List.replicate (n * 3) (.int .i64 0) := by
  induction n with
  | zero => rfl
  | succ n ih =>
    rw [show (n + 1) * 3 = n * 3 + 1 + 1 + 1 by omega, List.replicate_succ, List.replicate_succ, List.replicate_succ, List.replicate_succ, ← ih]
    rfl

/-- A row that is copied up to k. -/
def heTo (l : List Hd) (len k : Nat) : List Hd := l.take k ++ List.replicate (len - k) (0, 0, 0)

theorem heTo_step (l : List Hd) (len k : Nat) (s : Hd) (h : l[k]? = some s) (hk : k < len) : (heTo l len k).set k s = heTo l len (k + 1) := by
  have hl : k < l.length := (List.getElem?_eq_some_iff.1 h).1
  have ht : (l.take k).length = k := by simp; omega
  rw [heTo, heTo, List.set_append_right k _ (by omega), ht, Nat.sub_self, List.take_add_one, h, show len - k = (len - (k + 1)) + 1 by omega, List.replicate_succ]
  simp

theorem heTo_len (l : List Hd) (len k : Nat) (h : l.length = len) (hk : k ≤ len) : (heTo l len k).length = len := by
  simp [heTo]; omega

theorem info_held : (Tryz.prog.info? 67).map (fun i => (i.zero, i.size, i.bytes)) = some (some (.agg #[.int .i64 0, .int .i64 0, .int .i64 0]), 3, 24) := by kernel_rfl

end Go.Proofs.YtclkfjlnhcccdaaGreatDoor

namespace Go.Proofs.YtclkfjlnhcccdaaGreatDoor
open Go.RowKit
set_option linter.unusedVariables false

set_option maxRecDepth 10000 in
set_option maxHeartbeats 800000 in
theorem toResp_any (st off : Int) (w : World) :
    Calls Tryz.prog 80 #[.agg #[.int .i64 st, .int .i64 off]] w fun e w' => e = .returned (.agg #[.int .i64 st, .int .i64 off]) ∧ Below w.heap.size w w' := by
  go_enter Tryz.func80, Tryz.ntmps80
  go_wp2
  refine bodyPost_ret (v := .agg #[.int .i64 st, .int .i64 off]) (by simp [results, Tryz.f80, go_sem]) rfl ?_
  exact ⟨rfl, (((Below.refl _ _).alloc (Nat.le_refl _) _).alloc (by simp) _).alloc (by simp; omega) _⟩

end Go.Proofs.YtclkfjlnhcccdaaGreatDoor

namespace Go.Proofs.YtclkfjlnhcccdaaGreatDoor
open Go.RowKit
set_option linter.unusedVariables false

set_option maxRecDepth 10000 in
set_option maxHeartbeats 800000 in
theorem szHeldS_any (a : Option Addr) (len cap : Nat) (m : Int) (w : World) (h0 : 0 ≤ m) (hm : m ≤ 1048576) (hl : len ≤ maxLen) :
    Calls Tryz.prog 21 #[.slice a len cap, .int .i64 m] w fun e w' => (∃ L : Int, e = .returned (.int .i64 L) ∧ (L < 0 ∨ (len ≤ 1048576 ∧ 0 ≤ L ∧ L ≤ m))) ∧ Below w.heap.size w w' := by
  have hmm : maxLen < 9223372036854775808 := by decide
  have HB : Hid (Below w.heap.size w w) := Below.refl _ _
  by_cases h : m - len < 0
  · go_enter Tryz.func21, Tryz.ntmps21
    go_wp2
    go_ret
    exact ⟨⟨-1, rfl, .inl (by omega)⟩, HB.out⟩
  · go_enter Tryz.func21, Tryz.ntmps21
    go_wp2
    go_ret
    exact ⟨⟨m - len, rfl, .inr ⟨by omega, by omega, by omega⟩⟩, HB.out⟩

set_option maxRecDepth 10000 in
set_option maxHeartbeats 800000 in
theorem toHeld_any (x y z : Int) (w : World) : Calls Tryz.prog 48 #[.agg #[.int .i64 x, .int .i64 y, .int .i64 z]] w fun e w' => e = .returned (.agg #[.int .i64 x, .int .i64 y, .int .i64 z]) ∧ Below w.heap.size w w' := by
  obtain ⟨W0, hW0⟩ : ∃ W0, ((w.alloc (.cells #[.int .i64 x, .int .i64 y, .int .i64 z] 84)).alloc (.cells #[.int .i64 0, .int .i64 0, .int .i64 0] 67)).alloc (.cells #[.int .i64 0, .int .i64 0, .int .i64 0] 67) = W0 := ⟨_, rfl⟩
  have HE : Hid (((w.alloc (.cells #[.int .i64 x, .int .i64 y, .int .i64 z] 84)).alloc (.cells #[.int .i64 0, .int .i64 0, .int .i64 0] 67)).alloc (.cells #[.int .i64 0, .int .i64 0, .int .i64 0] 67) = W0) := hW0
  have HB : Hid (Below w.heap.size w W0) := by show Below _ _ _; rw [← hW0]; exact (((Below.refl _ _).alloc (Nat.le_refl _) _).alloc (by simp) _).alloc (by simp; omega) _
  have HI : Hid (BoxN W0 w.heap.size 84 [.int .i64 x, .int .i64 y, .int .i64 z]) := by show BoxN _ _ _ _; rw [← hW0]; exact ((BoxN.new _ _ _).alloc _).alloc _
  have HR : Hid (BoxN W0 (w.heap.size + 1) 67 [.int .i64 0, .int .i64 0, .int .i64 0]) := by
    show BoxN _ _ _ _
    rw [← hW0]
    have := (BoxN.new (w.alloc (.cells #[.int .i64 x, .int .i64 y, .int .i64 z] 84)) 67 [.int .i64 0, .int .i64 0, .int .i64 0]).alloc (.cells #[.int .i64 0, .int .i64 0, .int .i64 0] 67)
    rw [World.size_alloc] at this
    exact this
  have HO : Hid (BoxN W0 (w.heap.size + 1 + 1) 67 [.int .i64 0, .int .i64 0, .int .i64 0]) := by
    show BoxN _ _ _ _
    rw [← hW0]
    have := BoxN.new ((w.alloc (.cells #[.int .i64 x, .int .i64 y, .int .i64 z] 84)).alloc (.cells #[.int .i64 0, .int .i64 0, .int .i64 0] 67)) 67 [.int .i64 0, .int .i64 0, .int .i64 0]
    rw [World.size_alloc, World.size_alloc] at this
    exact this
  clear hW0
  have hlt : w.heap.size + 1 + 1 < W0.heap.size := HO.out.lt
  have c0 := HI.out.cell 0 rfl
  have c1 := HI.out.cell 1 rfl
  have c2 := HI.out.cell 2 rfl
  have o0 := HO.out.cell 0 rfl
  have f0 := HO.out.frozen 0
  obtain ⟨x2, hx2⟩ : ∃ x2, W0.setCell ⟨w.heap.size + 1 + 1, 0, none⟩ (.int .i64 x) = x2 := ⟨_, rfl⟩
  have HE2 : Hid (W0.setCell ⟨w.heap.size + 1 + 1, 0, none⟩ (.int .i64 x) = x2) := hx2
  have HB2 : Hid (Below w.heap.size w x2) := by show Below _ _ _; rw [← hx2]; exact HB.out.setCell (by dsimp only; omega) _
  have HO2 : Hid (BoxN x2 (w.heap.size + 1 + 1) 67 [.int .i64 x, .int .i64 0, .int .i64 0]) := by show BoxN _ _ _ _; rw [← hx2]; exact HO.out.set 0 _
  have HR2 : Hid (BoxN x2 (w.heap.size + 1) 67 [.int .i64 0, .int .i64 0, .int .i64 0]) := by show BoxN _ _ _ _; rw [← hx2]; exact HR.out.other (by omega) _
  clear hx2
  go_enter Tryz.func48, Tryz.ntmps48
  go_upto_region 2 with fail
  rw [HE.out]
  clear HE
  go_wp2_with fail
  rw [HE2.out]
  clear HE2 c0 c1 c2 o0 f0
  refine (toResp_any y z x2).mono ?_
  rintro _ x3 ⟨rfl, hb3⟩
  have HB3 : Hid (Below w.heap.size w x3) := HB2.out.trans (hb3.mono HB2.out.size)
  have hO3 := HO2.out.stays hb3
  have hR3 := HR2.out.stays hb3
  have b0 := hO3.cell 0 rfl
  have b1 := hO3.cell 1 rfl
  have b2 := hO3.cell 2 rfl
  have z1 := hO3.frozen 1
  have z2 := hO3.frozen 2
  have a0 := hR3.cell 0 rfl
  have a1 := hR3.cell 1 rfl
  have a2 := hR3.cell 2 rfl
  have e0 := hR3.frozen 0
  have e1 := hR3.frozen 1
  have e2 := hR3.frozen 2
  clear hb3 hO3 hR3 HO2 HR2
  go_wp2
  refine bodyPost_ret (v := .agg #[.int .i64 x, .int .i64 y, .int .i64 z]) (by simp [results, Tryz.f48, go_sem, a0, a1, a2]) rfl ?_
  exact ⟨rfl, ((((HB3.out.setCell (by dsimp only; omega) _).setCell (by dsimp only; omega) _).setCell (by dsimp only; omega) _).setCell (by dsimp only; omega) _).setCell (by dsimp only; omega) _⟩

set_option maxRecDepth 10000 in
set_option maxHeartbeats 800000 in
theorem toHeldS_own (a : Option Addr) (len ca : Nat) (xs : List Hd) (w : World) (hx : Helds w a len xs) (hl : len ≤ 1048576) :
    Calls Tryz.prog 26 #[.slice a len ca] w fun e w' => e = .returned (.slice (some ⟨w.heap.size, 0, none⟩) len len) ∧ OwnH w' w.heap.size (some ⟨w.heap.size, 0, none⟩) len len xs ∧ Below w.heap.size w w' := by
  obtain ⟨i0, hi, hz0, hz1, hz2⟩ := info_parts info_held
  have HS : Hid (Helds w a len xs) := hx
  clear hx
  go_enter Tryz.func26, Tryz.ntmps26
  go_wp2_with (at_make; refine wpList_make_full _ rfl _ _ 36 rfl w.heap.size 67 i0 (.agg #[.int .i64 0, .int .i64 0, .int .i64 0]) 3 Tryz.underlying36 hi hz0 hz1 _ _ _ _ len rfl rfl rfl rfl (by rw [hz2]; omega) (by unfold maxLen; omega) (Nat.le_refl _) ?_; intro w1 hown hgrow)
  have hrow : w1.ownsRow w.heap.size 67 3 (.slice (some ⟨w.heap.size, 0, none⟩) len len) len (heCells (heTo xs len 0)) := by
    have : (madeCells (Value.agg #[.int .i64 0, .int .i64 0, .int .i64 0]).cells (len * 3)).toList = heCells (heTo xs len 0) := by
      rw [show (Value.agg #[.int .i64 0, .int .i64 0, .int .i64 0]).cells = #[.int .i64 0, .int .i64 0, .int .i64 0] from by kernel_rfl, made_threeH]
      simp only [heTo, List.take_zero, List.nil_append, Nat.sub_zero]
      exact (heCells_nil len).symm
    rwa [this] at hown
  have hbel : Below w.heap.size w w1 := (Below.refl _ _).grown hgrow (Nat.le_refl _) (by simp)
  have HR := (show Hid _ from hrow)
  have HB := (show Hid _ from hbel)
  clear hown hgrow hrow hbel
  go_loopw [4] (fun i wr => ∃ k : Nat, k ≤ len ∧ i = .int .i64 k ∧ Hid (wr.ownsRow w.heap.size 67 3 (.slice (some ⟨w.heap.size, 0, none⟩) len len) len (heCells (heTo xs len k))) ∧ Hid (Below w.heap.size w wr)) (fun i _ => len - (intOf i).toNat)
  case atStart => exact ⟨0, Nat.zero_le _, rfl, HR, HB⟩
  case round =>
    clear HR HB
    obtain ⟨k, hk, rfl, HO, HB⟩ := hrel
    by_cases hlt : k < len
    · obtain ⟨ba, oa, x, y, z, rfl, hba, hfa, ha0, ha1, ha2, _⟩ := HS.out.at hlt
      have ga0 : wr.cell? ⟨ba, oa + k * 3, none⟩ = some (.int .i64 x) := (HB.out.cell (p := ⟨ba, _, none⟩) hba).trans ha0
      have ga1 : wr.cell? ⟨ba, oa + k * 3 + 1, none⟩ = some (.int .i64 y) := (HB.out.cell (p := ⟨ba, _, none⟩) hba).trans ha1
      have ga2 : wr.cell? ⟨ba, oa + k * 3 + 2, none⟩ = some (.int .i64 z) := (HB.out.cell (p := ⟨ba, _, none⟩) hba).trans ha2
      have HF : Hid (xs[k]? = some (x, y, z)) := hfa
      clear hfa ha0 ha1 ha2
      have hki : (k : Int) < (len : Int) := by omega
      have hk0 : (0 : Int) ≤ (k : Int) := by omega
      go_wp2_with fail
      refine (toHeld_any x y z _).mono ?_
      rintro e x3 ⟨rfl, hb3⟩
      have HO3 : Hid (x3.ownsRow w.heap.size 67 3 (.slice (some ⟨w.heap.size, 0, none⟩) len len) len (heCells (heTo xs len k))) := own_below HO.out hb3
      have HB3 : Hid (Below w.heap.size w x3) := HB.out.trans (hb3.mono HB.out.size)
      clear hb3
      have hln : (heCells (heTo xs len k)).length = len * 3 := by rw [heCells_len, heTo_len xs len k HS.out.1 hk]
      have f0 : x3.frozen? ⟨w.heap.size, k * 3, none⟩ = false := HO3.out.frozenAt _
      have f1 : x3.frozen? ⟨w.heap.size, k * 3 + 1, none⟩ = false := HO3.out.frozenAt _
      have f2 : x3.frozen? ⟨w.heap.size, k * 3 + 2, none⟩ = false := HO3.out.frozenAt _
      obtain ⟨u0, hu0⟩ : ∃ u, x3.cell? ⟨w.heap.size, k * 3, none⟩ = some u := by
        rw [HO3.out.cellAt _ (by omega)]
        exact ⟨_, List.getElem?_eq_getElem (by omega)⟩
      obtain ⟨u1, hu1⟩ : ∃ u, x3.cell? ⟨w.heap.size, k * 3 + 1, none⟩ = some u := by
        rw [HO3.out.cellAt _ (by omega)]
        exact ⟨_, List.getElem?_eq_getElem (by omega)⟩
      obtain ⟨u2, hu2⟩ : ∃ u, x3.cell? ⟨w.heap.size, k * 3 + 2, none⟩ = some u := by
        rw [HO3.out.cellAt _ (by omega)]
        exact ⟨_, List.getElem?_eq_getElem (by omega)⟩
      clear hln
      go_wp2
      go_roundw
      case rel =>
        refine ⟨k + 1, by omega, by go_num, ?_, ?_⟩
        · have h := (((HO3.out.stored (k * 3) (.int .i64 x)).1.stored (k * 3 + 1) (.int .i64 y)).1.stored (k * 3 + 2) (.int .i64 z)).1
          rw [heCells_set _ x y z k (by rw [heTo_len xs len k HS.out.1 hk]; exact hlt), heTo_step xs len k (x, y, z) HF.out hlt] at h
          exact h
        · exact ((HB3.out.setCell (Nat.le_refl _) _).setCell (Nat.le_refl _) _).setCell (Nat.le_refl _) _
      case measure => simp [intOf]; omega
    · go_wp2
      go_ret
      have hkl : k = len := by omega
      subst hkl
      have hl1 := HS.out.1
      have h := HO.out
      rw [show heTo xs k k = xs by simp [heTo, List.take_of_length_le (Nat.le_of_eq hl1)]] at h
      exact ⟨rfl, ⟨h, HS.out.2.1⟩, HB.out⟩

end Go.Proofs.YtclkfjlnhcccdaaGreatDoor

namespace Go.Proofs.YtclkfjlnhcccdaaGreatDoor
open Go.RowKit
set_option linter.unusedVariables false

theorem texts_at {W : World} {base n C : Nat} {A : Option Addr} {X : List ByteArray} (h : OwnSt W base (.slice A n C) n X) (hn : 0 < n) : ∃ g, A = some ⟨g, 0, none⟩ := by
  rcases h.1.2 with ⟨_, h0⟩ | ⟨g, cap', cur, he, _⟩
  · omega
  · injection he with e1 _ _
    exact ⟨g, e1⟩

/-- A cell of a row of texts, and that it is not frozen. -/
theorem texts_cell {W : World} {base g n C : Nat} {X : List ByteArray} (h : OwnSt W base (.slice (some ⟨g, 0, none⟩) n C) n X) {k : Nat} (hk : k < n) : ∃ x, X[k]? = some x ∧ W.cell? ⟨g, k, none⟩ = some (.string x) ∧ W.frozen? ⟨g, k, none⟩ = false := by
  have hl := h.len
  have hkx : k < X.length := by omega
  refine ⟨X[k], List.getElem?_eq_getElem hkx, ?_, h.1.frozenAt k⟩
  have := h.1.cellAt k (by rw [Nat.mul_one]; exact hk)
  rw [this, scells, List.getElem?_map, List.getElem?_eq_getElem hkx]
  rfl

theorem scells_put (l : List ByteArray) (k : Nat) (x : ByteArray) : (scells l).set k (.string x) = scells (l.set k x) := by rw [scells, scells, List.map_set]

/-- A sector is put. -/
theorem StoAt.putNow {W : World} {base g : Nat} {n ca : Nat} {X : List ByteArray} {a' : Option Addr} {n' ca' : Nat} {Y : List ByteArray} {ua : Option Addr} {un uc : Nat} {l : List UE} (h : StoAt W base (some ⟨g, 0, none⟩) n ca X a' n' ca' Y ua un uc l) (k : Nat) (x : ByteArray) (hx : x.size ≤ maxLen) : StoAt (W.setCell ⟨g, k, none⟩ (.string x)) base (some ⟨g, 0, none⟩) n ca (X.set k x) a' n' ca' Y ua un uc l := by
  have hst := h.now.1.stored k (.string x)
  have hg : W.grownBy (W.setCell ⟨g, k, none⟩ (.string x)) (some g) := hst.2
  refine ⟨⟨?_, fun y hy => ?_⟩, h.sure.setCell (fun e => ?_) _, h.apart, h.ups.keptS h.now hg, h.len⟩
  · rw [← scells_put]
    exact hst.1
  · rcases List.mem_or_eq_of_mem_set hy with h2 | rfl
    · exact h.now.2 y h2
    · exact hx
  · rw [blk_own] at e
    exact h.apart g rfl e

/-- The uploads of a store are put down anew, in their row or in new ones. -/
theorem StoAt.upsTo {W W' : World} {base : Nat} {a : Option Addr} {n ca : Nat} {X : List ByteArray} {a' : Option Addr} {n' ca' : Nat} {Y : List ByteArray} {ua : Option Addr} {un uc : Nat} {l : List UE} {ua' : Option Addr} {un' uc' : Nat} {l' : List UE} (h : StoAt W base a n ca X a' n' ca' Y ua un uc l) (hg : W.grownBy W' (Value.slice ua un uc).ownBlock) (hu : UpRow W' base (.slice ua' un' uc') l') (hl : un' = l'.length) : StoAt W' base a n ca X a' n' ca' Y ua' un' uc' l' :=
  ⟨h.now.keptR h.ups.1 (by decide) hg, h.sure.keptR h.ups.1 (by decide) hg, h.apart, hu, hl⟩

/-- The store has other uploads. -/
theorem StoAt.withUps {W : World} {base : Nat} {a : Option Addr} {n ca : Nat} {X : List ByteArray} {a' : Option Addr} {n' ca' : Nat} {Y : List ByteArray} {ua : Option Addr} {un uc : Nat} {l : List UE} {ua' : Option Addr} {un' uc' : Nat} {l' : List UE} (h : StoAt W base a n ca X a' n' ca' Y ua un uc l) (hu : UpRow W base (.slice ua' un' uc') l') (hl : un' = l'.length) : StoAt W base a n ca X a' n' ca' Y ua' un' uc' l' :=
  ⟨h.now, h.sure, h.apart, hu, hl⟩

/-- A cell of a variable is written that is of none of the rows' types. -/
theorem StoAt.setBox {W : World} {base b i : Nat} {t : TypeId} {a : Option Addr} {n ca : Nat} {X : List ByteArray} {a' : Option Addr} {n' ca' : Nat} {Y : List ByteArray} {ua : Option Addr} {un uc : Nat} {l : List UE} {vs : List Value} (h : StoAt W base a n ca X a' n' ca' Y ua un uc l) (hb : BoxN W b t vs) (u : Value) (h0 : t ≠ 9 := by decide) (h1 : t ≠ 112 := by decide) (h2 : t ≠ 5 := by decide) : StoAt (W.setCell ⟨b, i, none⟩ u) base a n ca X a' n' ca' Y ua un uc l := by
  refine ⟨h.now.setCell (fun e => ?_) u, h.sure.setCell (fun e => ?_) u, h.apart, h.ups.setBox hb h1 h2, h.len⟩
  · exact hb.noRow h.now.1 h0 (by rw [ownBlock_sU]; rw [blk_own] at e; exact e)
  · exact hb.noRow h.sure.1 h0 (by rw [ownBlock_sU]; rw [blk_own] at e; exact e)

end Go.Proofs.YtclkfjlnhcccdaaGreatDoor

namespace Go.Proofs.YtclkfjlnhcccdaaGreatDoor
open Go.RowKit
set_option linter.unusedVariables false

theorem own_same {W W' : World} {base n size : Nat} {e : TypeId} {v : Value} {xs : List Value} (h : W.ownsRow base e size v n xs) (hq : ∀ q, v.ownBlock = some q → W'.heap[q]? = W.heap[q]?) : W'.ownsRow base e size v n xs := by
  refine ⟨h.1, ?_⟩
  rcases h.2 with h0 | ⟨g, cap, cur, rfl, hb, hg, r⟩
  · exact .inl h0
  · exact .inr ⟨g, cap, cur, rfl, hb, (hq g rfl).trans hg, r⟩

theorem Owns.same {W W' : World} {base n c : Nat} {a : Option Addr} {zs : List Int} (h : Owns W base a n c zs) (hq : ∀ q, a.map (·.block) = some q → W'.heap[q]? = W.heap[q]?) : Owns W' base a n c zs := ⟨own_same h.1 (fun q e => hq q (by rw [← ownBlock_sU a n c]; exact e)), h.2⟩

theorem UpRow.same {W W' : World} {base : Nat} {v : Value} {l : List UE} (h : UpRow W base v l) (h1 : ∀ q, v.ownBlock = some q → W'.heap[q]? = W.heap[q]?) (h2 : ∀ e ∈ l, ∀ q, e.a.map (·.block) = some q → W'.heap[q]? = W.heap[q]?) : UpRow W' base v l :=
  ⟨own_same h.1 h1, fun e he => (h.2.1 e he).same (h2 e he), h.2.2⟩

end Go.Proofs.YtclkfjlnhcccdaaGreatDoor

namespace Go.Proofs.YtclkfjlnhcccdaaGreatDoor
open Go.RowKit
set_option linter.unusedVariables false

/-- Of what was there, only blocks from lo on and below hi may have turned. -/
structure Within (w w' : World) (lo hi : Nat) : Prop where
  os : w'.os = w.os
  tape : w'.tape = w.tape
  output : w'.output = w.output
  size : w.heap.size ≤ w'.heap.size
  block : ∀ q, q < w.heap.size → (q < lo ∨ hi ≤ q) → w'.heap[q]? = w.heap[q]?

theorem Within.refl (w : World) (lo hi : Nat) : Within w w lo hi := ⟨rfl, rfl, rfl, Nat.le_refl _, fun _ _ _ => rfl⟩

theorem Within.trans {w w1 w2 : World} {lo hi : Nat} (h : Within w w1 lo hi) (k : Within w1 w2 lo hi) : Within w w2 lo hi :=
  ⟨k.os.trans h.os, k.tape.trans h.tape, k.output.trans h.output, Nat.le_trans h.size k.size, fun q hq ho => (k.block q (Nat.lt_of_lt_of_le hq h.size) ho).trans (h.block q hq ho)⟩

theorem within_below {w w' : World} {lo hi : Nat} (h : Below w.heap.size w w') : Within w w' lo hi := ⟨h.os, h.tape, h.output, h.size, fun q hq _ => h.block q hq⟩

theorem within_grown {w w' : World} {lo hi : Nat} {r : Option Nat} (h : w.grownBy w' r) (hr : ∀ q, r = some q → lo ≤ q ∧ q < hi) : Within w w' lo hi :=
  ⟨h.os, h.tape, h.output, h.size, fun q hq ho => h.block q hq (fun e => by have := hr q e.symm; omega)⟩

theorem Within.below {w w' : World} {lo hi : Nat} (h : Within w w' lo hi) (hl : lo ≤ w.heap.size) : Below lo w w' :=
  ⟨h.os, h.tape, h.output, h.size, fun q hq => h.block q (Nat.lt_of_lt_of_le hq hl) (.inl hq)⟩

theorem Within.more {w w' : World} {lo hi lo' hi' : Nat} (h : Within w w' lo hi) (h1 : lo' ≤ lo) (h2 : hi ≤ hi') : Within w w' lo' hi' :=
  ⟨h.os, h.tape, h.output, h.size, fun q hq ho => h.block q hq (by omega)⟩

end Go.Proofs.YtclkfjlnhcccdaaGreatDoor
