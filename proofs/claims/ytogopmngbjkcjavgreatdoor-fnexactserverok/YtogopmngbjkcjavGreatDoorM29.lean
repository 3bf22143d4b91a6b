/- Rows of texts against themselves. Disks held against themselves. What the laws' own functions do with a disk: the size, the copy. The laws' copy of a disk. What the laws' own functions do with stores: the size, the copy. -/
import Derived.Test.YtogopmngbjkcjavGreatDoorM03
import Derived.Test.YtogopmngbjkcjavGreatDoorM12
import Derived.Test.YtogopmngbjkcjavGreatDoorM28
import Derived.Test.YtogopmngbjkcjavGreatDoorM28
import Derived.Test.YtogopmngbjkcjavGreatDoorM27
import Derived.Deep.CutBlock
namespace Go.Proofs.YtogopmngbjkcjavGreatDoor
open Go.RowKit
set_option linter.unusedVariables false

set_option maxHeartbeats 400000 in
theorem eqStrS_same (a b : Option Addr) (len ca cb : Nat) (xs : List ByteArray) (w : World) (hx : Strs w a len xs) (hy : Strs w b len xs) (hla : len ≤ 1099511627776) :
    Calls Tryz.prog 125 #[.slice a len ca, .slice b len cb] w fun e w' => e = .returned (.bool true) ∧ Below w.heap.size w w' := by
  have HX : Hid (Strs w a len xs) := hx
  have HY : Hid (Strs w b len xs) := hy
  clear hx hy
  have hne : ((len : Int) != (len : Int)) = false := by simp
  go_enter Tryz.func125, Tryz.ntmps125
  go_wp2
  go_loopw [5] (fun i wr => ∃ k : Nat, k ≤ len ∧ i = .int .i64 k ∧ Hid (Below w.heap.size w wr)) (fun i _ => len - (intOf i).toNat)
  case atStart => exact ⟨0, Nat.zero_le _, rfl, Below.refl _ _⟩
  case round =>
    obtain ⟨k, hk, rfl, HW⟩ := hrel
    by_cases hlt : k < len
    · obtain ⟨ba, oa, x, rfl, hba, hfa, ha0⟩ := HX.out.at hlt
      obtain ⟨bb, ob, x', rfl, hbb, hfb, hb0⟩ := HY.out.at hlt
      obtain rfl : x = x' := by rw [hfa] at hfb; simpa using hfb
      have ga0 : wr.cell? ⟨ba, oa + k, none⟩ = some (.string x) := (HW.out.cell (p := ⟨ba, _, none⟩) hba).trans ha0
      have gb0 : wr.cell? ⟨bb, ob + k, none⟩ = some (.string x) := (HW.out.cell (p := ⟨bb, _, none⟩) hbb).trans hb0
      clear hfa hfb ha0 hb0
      have hxx : (x.toList != x.toList) = false := by simp
      have hki : (k : Int) < (len : Int) := by omega
      have hk0 : (0 : Int) ≤ (k : Int) := by omega
      go_wp2
      go_quiet (fail)
      go_wp2
      go_roundw
      case rel => exact ⟨k + 1, by omega, by go_num, ⟨HW.out.os, HW.out.tape, HW.out.output, HW.out.size, HW.out.block⟩⟩
      case measure => simp [intOf]; omega
    · go_wp2
      go_ret
      exact ⟨rfl, HW.out⟩

end Go.Proofs.YtogopmngbjkcjavGreatDoor

namespace Go.Proofs.YtogopmngbjkcjavGreatDoor
open Go.RowKit
set_option linter.unusedVariables false

set_option maxHeartbeats 800000 in
theorem eqDisk_same (a b : Option Addr) (n ca cb : Nat) (xs : List ByteArray) (a' b' : Option Addr) (n' ca' cb' : Nat) (ys : List ByteArray) (w : World) (h1 : Strs w a n xs) (h2 : Strs w b n xs) (h3 : Strs w a' n' ys) (h4 : Strs w b' n' ys) (hn : n ≤ 1099511627776) (hn' : n' ≤ 1099511627776) :
    Calls Tryz.prog 79 #[.agg #[.slice a n ca, .slice a' n' ca'], .agg #[.slice b n cb, .slice b' n' cb']] w fun r w' => r = .returned (.bool true) ∧ Below w.heap.size w w' := by
  have HX : Hid (∀ W, Below w.heap.size w W → Strs W a n xs ∧ Strs W b n xs ∧ Strs W a' n' ys ∧ Strs W b' n' ys) := fun W h => ⟨h1.below h, h2.below h, h3.below h, h4.below h⟩
  clear h1 h2 h3 h4
  go_enter Tryz.func79, Tryz.ntmps79
  go_wp2_with fail
  have hba : Below w.heap.size w ((w.alloc (Obj.cells #[Value.slice a n ca, Value.slice a' n' ca'] 33)).alloc (Obj.cells #[Value.slice b n cb, Value.slice b' n' cb'] 33)) := ((Below.refl _ _).alloc (Nat.le_refl _) _).alloc (by simp) _
  have HA : Hid (Box2R ((w.alloc (Obj.cells #[Value.slice a n ca, Value.slice a' n' ca'] 33)).alloc (Obj.cells #[Value.slice b n cb, Value.slice b' n' cb'] 33)) w.heap.size 33 (.slice a n ca) (.slice a' n' ca')) := (Box2R.new _ _ _ _).alloc _
  have HC : Hid (Box2R ((w.alloc (Obj.cells #[Value.slice a n ca, Value.slice a' n' ca'] 33)).alloc (Obj.cells #[Value.slice b n cb, Value.slice b' n' cb'] 33)) (w.heap.size + 1) 33 (.slice b n cb) (.slice b' n' cb')) := by
    have := Box2R.new (w.alloc (Obj.cells #[Value.slice a n ca, Value.slice a' n' ca'] 33)) 33 (.slice b n cb) (.slice b' n' cb')
    rwa [World.size_alloc] at this
  have HB : Hid (Below w.heap.size w _) := hba
  clear hba
  refine (eqStrS_same a b n ca cb xs _ (HX.out _ HB.out).1 (HX.out _ HB.out).2.1 hn).mono ?_
  rintro r x3 ⟨rfl, hb3⟩
  have HB3 : Hid (Below w.heap.size w x3) := HB.out.trans (hb3.mono HB.out.size)
  obtain ⟨c0, c1⟩ := (HA.out.stays hb3).cells
  obtain ⟨d0, d1⟩ := (HC.out.stays hb3).cells
  clear hb3 HA HC HB
  go_wp2_with fail
  refine (eqStrS_same a' b' n' ca' cb' ys _ (HX.out _ HB3.out).2.2.1 (HX.out _ HB3.out).2.2.2 hn').mono ?_
  rintro r x4 ⟨rfl, hb4⟩
  have HB4 : Hid (Below w.heap.size w x4) := HB3.out.trans (hb4.mono HB3.out.size)
  clear hb4 HB3 c0 c1 d0 d1
  go_wp2_with fail
  go_ret
  exact ⟨rfl, HB4.out⟩

end Go.Proofs.YtogopmngbjkcjavGreatDoor

namespace Go.Proofs.YtogopmngbjkcjavGreatDoor
open Go.RowKit
set_option linter.unusedVariables false

set_option maxHeartbeats 800000 in
theorem szDisk_any (a : Option Addr) (n ca : Nat) (xs : List ByteArray) (a' : Option Addr) (n' ca' : Nat) (ys : List ByteArray) (m : Int) (w : World) (h1 : Strs w a n xs) (h3 : Strs w a' n' ys) (hm : 0 ≤ m) (hm2 : m ≤ 1048576) (hn : n ≤ maxLen) (hn' : n' ≤ maxLen) :
    Calls Tryz.prog 60 #[.agg #[.slice a n ca, .slice a' n' ca'], .int .i64 m] w fun r w' => (∃ v : Int, r = .returned (.int .i64 v) ∧ v ≤ m ∧ (0 ≤ v → v + (n + strBytes xs) + (n' + strBytes ys) ≤ m)) ∧ Below w.heap.size w w' := by
  have HX : Hid (∀ W, Below w.heap.size w W → Strs W a n xs ∧ Strs W a' n' ys) := fun W h => ⟨h1.below h, h3.below h⟩
  clear h1 h3
  have HA : Hid (Box2R (w.alloc (Obj.cells #[Value.slice a n ca, Value.slice a' n' ca'] 24)) w.heap.size 24 (.slice a n ca) (.slice a' n' ca')) := Box2R.new _ _ _ _
  have HB : Hid (Below w.heap.size w (w.alloc (Obj.cells #[Value.slice a n ca, Value.slice a' n' ca'] 24))) := (Below.refl _ _).alloc (Nat.le_refl _) _
  go_enter Tryz.func60, Tryz.ntmps60
  go_wp2_with fail
  refine (szStrS_any a n ca xs m _ (HX.out _ HB.out).1 hm hm2 hn).mono ?_
  rintro r x3 ⟨⟨v, rfl, hvm, hv⟩, hb3⟩
  have HB3 : Hid (Below w.heap.size w x3) := HB.out.trans (hb3.mono HB.out.size)
  obtain ⟨c0, c1⟩ := (HA.out.stays hb3).cells
  clear hb3 HA HB
  by_cases hneg : v < 0
  · go_wp2_with fail
    go_ret
    exact ⟨⟨_, rfl, by omega, by omega⟩, HB3.out⟩
  have HV : Hid (v + (n + strBytes xs) ≤ m) := hv (by omega)
  clear hv
  go_wp2_with fail
  refine (szStrS_any a' n' ca' ys v _ (HX.out _ HB3.out).2 (by omega) (by omega) hn').mono ?_
  rintro r x4 ⟨⟨v4, rfl, hvm4, hv4⟩, hb4⟩
  have HB4 : Hid (Below w.heap.size w x4) := HB3.out.trans (hb4.mono HB3.out.size)
  have HV4 : Hid (0 ≤ v4 → v4 + (n' + strBytes ys) ≤ v) := hv4
  clear hb4 HB3 c0 c1 hv4
  by_cases hneg4 : v4 < 0
  · go_wp2_with fail
    go_ret
    exact ⟨⟨_, rfl, by omega, by omega⟩, HB4.out⟩
  go_wp2_with fail
  go_ret
  refine ⟨⟨_, rfl, by omega, fun h => ?_⟩, HB4.out⟩
  have h1 := HV.out
  have h2 := HV4.out h
  omega

end Go.Proofs.YtogopmngbjkcjavGreatDoor

namespace Go.Proofs.YtogopmngbjkcjavGreatDoor
open Go.RowKit
set_option linter.unusedVariables false

set_option maxHeartbeats 800000 in
theorem toDisk_any (a : Option Addr) (n ca : Nat) (xs : List ByteArray) (a' : Option Addr) (n' ca' : Nat) (ys : List ByteArray) (w : World) (h1 : Strs w a n xs) (h3 : Strs w a' n' ys) (hn : n ≤ 1048576) (hn' : n' ≤ 1048576) :
    Calls Tryz.prog 68 #[.agg #[.slice a n ca, .slice a' n' ca']] w fun r w' => ∃ g g', r = .returned (.agg #[.slice (some ⟨g, 0, none⟩) n n, .slice (some ⟨g', 0, none⟩) n' n']) ∧ g ≠ g' ∧ OwnSt w' w.heap.size (.slice (some ⟨g, 0, none⟩) n n) n xs ∧ OwnSt w' w.heap.size (.slice (some ⟨g', 0, none⟩) n' n') n' ys ∧ Below w.heap.size w w' := by
  have HX : Hid (∀ W, Below w.heap.size w W → Strs W a n xs ∧ Strs W a' n' ys) := fun W h => ⟨h1.below h, h3.below h⟩
  clear h1 h3
  go_enter Tryz.func68, Tryz.ntmps68
  go_wp2_with fail
  obtain ⟨w0, hw0⟩ : ∃ w0, ((w.alloc (Obj.cells #[Value.slice a n ca, Value.slice a' n' ca'] 24)).alloc (Obj.cells #[Value.slice none 0 0, Value.slice none 0 0] 33)).alloc (Obj.cells #[Value.slice none 0 0, Value.slice none 0 0] 33) = w0 := ⟨_, rfl⟩
  have HB : Hid (Below w.heap.size w w0) := by
    rw [← hw0]
    exact (((Below.refl _ _).alloc (Nat.le_refl _) _).alloc (by simp) _).alloc (by simp; omega) _
  have HZ : Hid (w0.heap.size = w.heap.size + 3) := by show _ = _; rw [← hw0]; simp
  have HA : Hid (Box2R w0 w.heap.size 24 (.slice a n ca) (.slice a' n' ca')) := by
    rw [← hw0]
    exact ((Box2R.new _ _ _ _).alloc _).alloc _
  have HR : Hid (Box2R w0 (w.heap.size + 1) 33 (.slice none 0 0) (.slice none 0 0)) := by
    have := (Box2R.new (w.alloc (Obj.cells #[Value.slice a n ca, Value.slice a' n' ca'] 24)) 33 (.slice none 0 0) (.slice none 0 0)).alloc (Obj.cells #[Value.slice none 0 0, Value.slice none 0 0] 33)
    rw [World.size_alloc, hw0] at this
    exact this
  have HO : Hid (Box2R w0 (w.heap.size + 1 + 1) 33 (.slice none 0 0) (.slice none 0 0)) := by
    have := Box2R.new ((w.alloc (Obj.cells #[Value.slice a n ca, Value.slice a' n' ca'] 24)).alloc (Obj.cells #[Value.slice none 0 0, Value.slice none 0 0] 33)) 33 (.slice none 0 0) (.slice none 0 0)
    rw [World.size_alloc, World.size_alloc, hw0] at this
    exact this
  rw [hw0]
  clear hw0
  refine (toStrS_own a n ca xs _ (HX.out _ HB.out).1 hn).mono ?_
  rintro r x1 ⟨rfl, ho1, hb1⟩
  generalize hg : w0.heap.size = g at *
  have HO1 : Hid (OwnSt x1 w.heap.size (.slice (some ⟨g, 0, none⟩) n n) n xs) := ho1.low (by have := HZ.out; omega)
  have HB1 : Hid (Below w.heap.size w x1) := HB.out.trans (hb1.mono (by have := HZ.out; omega))
  have HA1 : Hid (Box2R x1 w.heap.size 24 (.slice a n ca) (.slice a' n' ca')) := HA.out.stays (by rw [hg]; exact hb1)
  have HV1 : Hid (Box2R x1 (w.heap.size + 1 + 1) 33 (.slice none 0 0) (.slice none 0 0)) := HO.out.stays (by rw [hg]; exact hb1)
  have hgg : w.heap.size + 1 + 1 < g := by have := HZ.out; omega
  have HR1 : Hid (Box2R x1 (w.heap.size + 1) 33 (.slice none 0 0) (.slice none 0 0)) := HR.out.stays (by rw [hg]; exact hb1)
  clear ho1 hb1 HA HO HB HZ HR hg
  obtain ⟨c0, c1⟩ := HA1.out.cells
  obtain ⟨d0, d1⟩ := HV1.out.cells
  have f0 := HV1.out.frozen 0
  go_wp2_with fail
  obtain ⟨x2, hx2⟩ : ∃ x2, x1.setCell ⟨w.heap.size + 1 + 1, 0, none⟩ (.slice (some ⟨g, 0, none⟩) n n) = x2 := ⟨_, rfl⟩
  have HO2 : Hid (OwnSt x2 w.heap.size (.slice (some ⟨g, 0, none⟩) n n) n xs) := by
    rw [← hx2]
    exact HO1.out.setCell (by simp [blkOf]; omega) _
  have HB2 : Hid (Below w.heap.size w x2) := by
    rw [← hx2]
    exact HB1.out.setCell (by dsimp only; omega) _
  have HA2 : Hid (Box2R x2 w.heap.size 24 (.slice a n ca) (.slice a' n' ca')) := by
    rw [← hx2]
    exact HA1.out.other (by omega) _
  have HV2 : Hid (Box2R x2 (w.heap.size + 1 + 1) 33 (.slice (some ⟨g, 0, none⟩) n n) (.slice none 0 0)) := by
    rw [← hx2]
    exact HV1.out.set0 _
  have HR2 : Hid (Box2R x2 (w.heap.size + 1) 33 (.slice none 0 0) (.slice none 0 0)) := by
    rw [← hx2]
    exact HR1.out.other (by omega) _
  rw [hx2]
  clear hx2 HR1 HO1 HB1 HA1 HV1 c0 c1 d0 d1 f0
  refine (toStrS_own a' n' ca' ys _ (HX.out _ HB2.out).2 hn').mono ?_
  rintro r x3 ⟨rfl, ho3, hb3⟩
  have hgx : g < x2.heap.size := (HO2.out.lt g rfl).2
  generalize hg' : x2.heap.size = g' at *
  have HO3 : Hid (OwnSt x3 w.heap.size (.slice (some ⟨g, 0, none⟩) n n) n xs) := HO2.out.below (by rw [hg']; exact hb3)
  have HP3 : Hid (OwnSt x3 w.heap.size (.slice (some ⟨g', 0, none⟩) n' n') n' ys) := ho3.low (by omega)
  have HB3 : Hid (Below w.heap.size w x3) := HB2.out.trans (hb3.mono (by omega))
  have HV3 : Hid (Box2R x3 (w.heap.size + 1 + 1) 33 (.slice (some ⟨g, 0, none⟩) n n) (.slice none 0 0)) := HV2.out.stays (by rw [hg']; exact hb3)
  have HR3 : Hid (Box2R x3 (w.heap.size + 1) 33 (.slice none 0 0) (.slice none 0 0)) := HR2.out.stays (by rw [hg']; exact hb3)
  clear ho3 hb3 HA2 HV2 HO2 HB2 HR2 hg'
  obtain ⟨d0, d1⟩ := HV3.out.cells
  have f1 := HV3.out.frozen 1
  obtain ⟨e0, e1⟩ := (HV3.out.set1 (.slice (some ⟨g', 0, none⟩) n' n')).cells
  obtain ⟨r0, r1⟩ := HR3.out.cells
  have s0 := HR3.out.frozen 0
  have s1 := HR3.out.frozen 1
  go_wp2_with fail
  refine bodyPost_ret (v := .agg #[.slice (some ⟨g, 0, none⟩) n n, .slice (some ⟨g', 0, none⟩) n' n']) (by simp [results, Tryz.f68, go_sem, r0, r1]) rfl ?_
  refine ⟨g, g', rfl, by omega, ((HO3.out.setCell (by simp [blkOf]; omega) _).setCell (by simp [blkOf]; omega) _).setCell (by simp [blkOf]; omega) _, ((HP3.out.setCell (by simp [blkOf]; omega) _).setCell (by simp [blkOf]; omega) _).setCell (by simp [blkOf]; omega) _, ((HB3.out.setCell (by dsimp only; omega) _).setCell (by dsimp only; omega) _).setCell (by dsimp only; omega) _⟩

end Go.Proofs.YtogopmngbjkcjavGreatDoor

namespace Go.Proofs.YtogopmngbjkcjavGreatDoor
open Go.RowKit
set_option linter.unusedVariables false

/-- How great a store may be. -/
def SzS (n : Nat) (X : List ByteArray) (n' : Nat) (Y : List ByteArray) (un : Nat) (l : List UE) : Prop := n ≤ 1048576 ∧ n' ≤ 1048576 ∧ (∀ x ∈ X, x.size ≤ 1048576) ∧ (∀ y ∈ Y, y.size ≤ 1048576) ∧ SzU un l

set_option maxRecDepth 10000 in
set_option maxHeartbeats 800000 in
theorem szStore_any (a : Option Addr) (n ca : Nat) (X : List ByteArray) (a' : Option Addr) (n' ca' : Nat) (Y : List ByteArray) (ep nx : Int) (ua : Option Addr) (un uc : Nat) (l : List UE) (w : World) (h1 : Strs w a n X) (h2 : Strs w a' n' Y) (hu : UpsI w ua un l) (hn : n ≤ maxLen) (hn' : n' ≤ maxLen) (hun : un ≤ maxLen) :
    Calls Tryz.prog 31 #[.agg #[.slice a n ca, .slice a' n' ca', .int .i64 ep, .int .i64 nx, .slice ua un uc], .int .i64 1048576] w fun r w' => (∃ L : Int, r = .returned (.int .i64 L) ∧ (L < 0 ∨ (SzS n X n' Y un l ∧ 0 ≤ L ∧ L ≤ 1048576))) ∧ Below w.heap.size w w' := by
  have HX : Hid (∀ W, Below w.heap.size w W → Strs W a n X ∧ Strs W a' n' Y ∧ UpsI W ua un l) := fun W h => ⟨h1.below h, h2.below h, hu.below h⟩
  have HA : Hid (BoxN (w.alloc (.cells #[.slice a n ca, .slice a' n' ca', .int .i64 ep, .int .i64 nx, .slice ua un uc] 27)) w.heap.size 27 [.slice a n ca, .slice a' n' ca', .int .i64 ep, .int .i64 nx, .slice ua un uc]) := BoxN.new _ _ _
  have HB : Hid (Below w.heap.size w (w.alloc (.cells #[.slice a n ca, .slice a' n' ca', .int .i64 ep, .int .i64 nx, .slice ua un uc] 27))) := (Below.refl _ _).alloc (Nat.le_refl _) _
  clear h1 h2 hu
  go_enter Tryz.func31, Tryz.ntmps31
  go_wp2_with fail
  refine (szDisk_any a n ca X a' n' ca' Y 1048576 _ (HX.out _ HB.out).1 (HX.out _ HB.out).2.1 (by omega) (by omega) hn hn').mono ?_
  rintro _ x1 ⟨⟨v, rfl, hv1, hv2⟩, hb1⟩
  have HV : Hid (v ≤ 1048576 ∧ (0 ≤ v → v + (n + strBytes X) + (n' + strBytes Y) ≤ 1048576)) := ⟨hv1, hv2⟩
  have HB1 : Hid (Below w.heap.size w x1) := HB.out.trans (hb1.mono HB.out.size)
  have c4 := (HA.out.stays hb1).cell 4 rfl
  clear hb1 hv1 hv2
  by_cases hneg : v < 0
  · go_wp2_with fail
    go_ret
    exact ⟨⟨-1, rfl, .inl (by omega)⟩, HB1.out⟩
  have hv0 : 0 ≤ v := by omega
  have hvm : v ≤ 1048576 := HV.out.1
  go_wp2_with fail
  refine (szUpS_any ua un uc l v x1 (HX.out _ HB1.out).2.2 hv0 hvm hun).mono ?_
  rintro _ x2 ⟨⟨L, rfl, hL⟩, hb2⟩
  have HL : Hid (L < 0 ∨ (SzU un l ∧ 0 ≤ L ∧ L ≤ v)) := hL
  have HB2 : Hid (Below w.heap.size w x2) := HB1.out.trans (hb2.mono HB1.out.size)
  clear hb2 hL c4
  by_cases hneg2 : L < 0
  · go_wp2_with fail
    go_ret
    exact ⟨⟨-1, rfl, .inl (by omega)⟩, HB2.out⟩
  have HS : Hid (SzS n X n' Y un l) := by
    have h1 := HV.out.2 hv0
    refine ⟨by omega, by omega, fun x hx => ?_, fun y hy => ?_, ?_⟩
    · have := strBytes_mem X x hx; omega
    · have := strBytes_mem Y y hy; omega
    · rcases HL.out with h | h
      · exact absurd h hneg2
      · exact h.1
  go_wp2_with fail
  go_ret
  exact ⟨⟨L, rfl, .inr ⟨HS.out, by omega, by rcases HL.out with h | h <;> omega⟩⟩, HB2.out⟩

set_option maxRecDepth 10000 in
set_option maxHeartbeats 1600000 in
theorem toStore_any (a : Option Addr) (n ca : Nat) (X : List ByteArray) (a' : Option Addr) (n' ca' : Nat) (Y : List ByteArray) (ep nx : Int) (ua : Option Addr) (un uc : Nat) (l : List UE) (w : World) (h1 : Strs w a n X) (h2 : Strs w a' n' Y) (hu : UpsI w ua un l) (hs : SzS n X n' Y un l) :
    Calls Tryz.prog 35 #[.agg #[.slice a n ca, .slice a' n' ca', .int .i64 ep, .int .i64 nx, .slice ua un uc]] w fun r w' => (∃ g g' gu l', r = .returned (.agg #[.slice (some ⟨g, 0, none⟩) n n, .slice (some ⟨g', 0, none⟩) n' n', .int .i64 ep, .int .i64 nx, .slice (some ⟨gu, 0, none⟩) un un]) ∧ StoAt w' w.heap.size (some ⟨g, 0, none⟩) n n X (some ⟨g', 0, none⟩) n' n' Y (some ⟨gu, 0, none⟩) un un l' ∧ l'.map UE.u = l.map UE.u ∧ ∀ e ∈ l', e.n ≤ 1048576) ∧ Below w.heap.size w w' := by
  have HX : Hid (∀ W, Below w.heap.size w W → Strs W a n X ∧ Strs W a' n' Y ∧ UpsI W ua un l) := fun W h => ⟨h1.below h, h2.below h, hu.below h⟩
  have HS : Hid (SzS n X n' Y un l) := hs
  have HLu : Hid (l.length = un) := hu.1
  clear h1 h2 hu hs
  obtain ⟨W0, hW0⟩ : ∃ W0, ((w.alloc (.cells #[.slice a n ca, .slice a' n' ca', .int .i64 ep, .int .i64 nx, .slice ua un uc] 27)).alloc (.cells #[.slice none 0 0, .slice none 0 0, .int .i64 0, .int .i64 0, .slice none 0 0] 36)).alloc (.cells #[.slice none 0 0, .slice none 0 0, .int .i64 0, .int .i64 0, .slice none 0 0] 36) = W0 := ⟨_, rfl⟩
  have HE : Hid (((w.alloc (.cells #[.slice a n ca, .slice a' n' ca', .int .i64 ep, .int .i64 nx, .slice ua un uc] 27)).alloc (.cells #[.slice none 0 0, .slice none 0 0, .int .i64 0, .int .i64 0, .slice none 0 0] 36)).alloc (.cells #[.slice none 0 0, .slice none 0 0, .int .i64 0, .int .i64 0, .slice none 0 0] 36) = W0) := hW0
  have HB : Hid (Below w.heap.size w W0) := by show Below _ _ _; rw [← hW0]; exact (((Below.refl _ _).alloc (Nat.le_refl _) _).alloc (by simp) _).alloc (by simp; omega) _
  have HI : Hid (BoxN W0 w.heap.size 27 [.slice a n ca, .slice a' n' ca', .int .i64 ep, .int .i64 nx, .slice ua un uc]) := by show BoxN _ _ _ _; rw [← hW0]; exact ((BoxN.new _ _ _).alloc _).alloc _
  have HR : Hid (BoxN W0 (w.heap.size + 1) 36 [.slice none 0 0, .slice none 0 0, .int .i64 0, .int .i64 0, .slice none 0 0]) := by
    show BoxN _ _ _ _
    rw [← hW0]
    have := (BoxN.new (w.alloc (.cells #[.slice a n ca, .slice a' n' ca', .int .i64 ep, .int .i64 nx, .slice ua un uc] 27)) 36 [.slice none 0 0, .slice none 0 0, .int .i64 0, .int .i64 0, .slice none 0 0]).alloc (.cells #[.slice none 0 0, .slice none 0 0, .int .i64 0, .int .i64 0, .slice none 0 0] 36)
    rw [World.size_alloc] at this
    exact this
  have HO : Hid (BoxN W0 (w.heap.size + 1 + 1) 36 [.slice none 0 0, .slice none 0 0, .int .i64 0, .int .i64 0, .slice none 0 0]) := by
    show BoxN _ _ _ _
    rw [← hW0]
    have := BoxN.new ((w.alloc (.cells #[.slice a n ca, .slice a' n' ca', .int .i64 ep, .int .i64 nx, .slice ua un uc] 27)).alloc (.cells #[.slice none 0 0, .slice none 0 0, .int .i64 0, .int .i64 0, .slice none 0 0] 36)) 36 [.slice none 0 0, .slice none 0 0, .int .i64 0, .int .i64 0, .slice none 0 0]
    rw [World.size_alloc, World.size_alloc] at this
    exact this
  clear hW0
  have c0 := HI.out.cell 0 rfl
  have c1 := HI.out.cell 1 rfl
  go_enter Tryz.func35, Tryz.ntmps35
  go_upto_region 2 with fail
  rw [HE.out]
  clear HE
  go_wp2_with fail
  refine (toDisk_any a n ca X a' n' ca' Y W0 (HX.out _ HB.out).1 (HX.out _ HB.out).2.1 HS.out.1 HS.out.2.1).mono ?_
  rintro _ x1 ⟨g, g', rfl, hgg, ho1, ho2, hb1⟩
  have HO1 : Hid (OwnSt x1 W0.heap.size (.slice (some ⟨g, 0, none⟩) n n) n X ∧ OwnSt x1 W0.heap.size (.slice (some ⟨g', 0, none⟩) n' n') n' Y ∧ g ≠ g') := ⟨ho1, ho2, hgg⟩
  have HB1 : Hid (Below W0.heap.size W0 x1) := hb1
  have hi1 := HI.out.stays hb1
  have ho1' := HO.out.stays hb1
  have c2 := hi1.cell 2 rfl
  have c3 := hi1.cell 3 rfl
  have c4 := hi1.cell 4 rfl
  have o0 := ho1'.cell 0 rfl
  have o1 := ho1'.cell 1 rfl
  have o2 := ho1'.cell 2 rfl
  have o3 := ho1'.cell 3 rfl
  have f0 := ho1'.frozen 0
  have f1 := ho1'.frozen 1
  have f2 := ho1'.frozen 2
  have f3 := ho1'.frozen 3
  obtain ⟨x2, hx2⟩ : ∃ x2, ((((x1.setCell ⟨w.heap.size + 1 + 1, 0, none⟩ (.slice (some ⟨g, 0, none⟩) n n)).setCell ⟨w.heap.size + 1 + 1, 1, none⟩ (.slice (some ⟨g', 0, none⟩) n' n')).setCell ⟨w.heap.size + 1 + 1, 2, none⟩ (.int .i64 ep)).setCell ⟨w.heap.size + 1 + 1, 3, none⟩ (.int .i64 nx)) = x2 := ⟨_, rfl⟩
  have HE2 : Hid (((((x1.setCell ⟨w.heap.size + 1 + 1, 0, none⟩ (.slice (some ⟨g, 0, none⟩) n n)).setCell ⟨w.heap.size + 1 + 1, 1, none⟩ (.slice (some ⟨g', 0, none⟩) n' n')).setCell ⟨w.heap.size + 1 + 1, 2, none⟩ (.int .i64 ep)).setCell ⟨w.heap.size + 1 + 1, 3, none⟩ (.int .i64 nx)) = x2) := hx2
  have hlt : w.heap.size + 1 + 1 < W0.heap.size := HO.out.lt
  have hbs : Below W0.heap.size W0 x1 := HB1.out
  have HB2 : Hid (Below w.heap.size w x2) := by
    show Below _ _ _
    rw [← hx2]
    exact ((((HB.out.trans (hbs.mono HB.out.size)).setCell (by dsimp only; omega) _).setCell (by dsimp only; omega) _).setCell (by dsimp only; omega) _).setCell (by dsimp only; omega) _
  have HO2 : Hid (BoxN x2 (w.heap.size + 1 + 1) 36 [.slice (some ⟨g, 0, none⟩) n n, .slice (some ⟨g', 0, none⟩) n' n', .int .i64 ep, .int .i64 nx, .slice none 0 0]) := by
    show BoxN _ _ _ _
    rw [← hx2]
    exact (((ho1'.set 0 _).set 1 _).set 2 _).set 3 _
  have HR2 : Hid (BoxN x2 (w.heap.size + 1) 36 [.slice none 0 0, .slice none 0 0, .int .i64 0, .int .i64 0, .slice none 0 0]) := by
    show BoxN _ _ _ _
    rw [← hx2]
    exact ((((HR.out.stays hb1).other (by omega) _).other (by omega) _).other (by omega) _).other (by omega) _
  have hgs : W0.heap.size ≤ g := (ho1.lt g rfl).1
  have hgs' : W0.heap.size ≤ g' := (ho2.lt g' rfl).1
  have HD2 : Hid (OwnSt x2 W0.heap.size (.slice (some ⟨g, 0, none⟩) n n) n X ∧ OwnSt x2 W0.heap.size (.slice (some ⟨g', 0, none⟩) n' n') n' Y ∧ g ≠ g') := by
    refine ⟨?_, ?_, hgg⟩
    · rw [← hx2]
      exact (((ho1.setCell (by simp [blkOf]; omega) _).setCell (by simp [blkOf]; omega) _).setCell (by simp [blkOf]; omega) _).setCell (by simp [blkOf]; omega) _
    · rw [← hx2]
      exact (((ho2.setCell (by simp [blkOf]; omega) _).setCell (by simp [blkOf]; omega) _).setCell (by simp [blkOf]; omega) _).setCell (by simp [blkOf]; omega) _
  clear hx2 hi1 ho1' hb1 HI HR HO HO1 hgs hgs' ho1 ho2 hgg hbs
  go_wp2_with fail
  rw [HE2.out]
  clear HE2 c0 c1 c2 c3 c4 o0 o1 o2 o3 f0 f1 f2 f3
  refine (toUpS_any ua un uc l x2 (HX.out _ HB2.out).2.2 HS.out.2.2.2.2).mono ?_
  rintro _ x3 ⟨⟨gu, l', rfl, hrow, hmap, hsz⟩, hb3⟩
  have HB3 : Hid (Below w.heap.size w x3) := HB2.out.trans (hb3.mono HB2.out.size)
  have hO3 := HO2.out.stays hb3
  have hR3 := HR2.out.stays hb3
  have hx2l : w.heap.size + 1 + 1 < x2.heap.size := HO2.out.lt
  have hw0l : w.heap.size + 1 + 1 < W0.heap.size := hlt
  have b0 := hO3.cell 0 rfl
  have b1 := hO3.cell 1 rfl
  have b2 := hO3.cell 2 rfl
  have b3 := hO3.cell 3 rfl
  have b4 := hO3.cell 4 rfl
  have z4 := hO3.frozen 4
  have a0 := hR3.cell 0 rfl
  have a1 := hR3.cell 1 rfl
  have a2 := hR3.cell 2 rfl
  have a3 := hR3.cell 3 rfl
  have a4 := hR3.cell 4 rfl
  have e0 := hR3.frozen 0
  have e1 := hR3.frozen 1
  have e2 := hR3.frozen 2
  have e3 := hR3.frozen 3
  have e4 := hR3.frozen 4
  have HUl : Hid (un = l'.length) := by
    show _ = _
    have h1 := congrArg List.length hmap
    rw [List.length_map, List.length_map, HLu.out] at h1
    exact h1.symm
  have HSt : Hid (StoAt x3 (w.heap.size + 1 + 1 + 1) (some ⟨g, 0, none⟩) n n X (some ⟨g', 0, none⟩) n' n' Y (some ⟨gu, 0, none⟩) un un l') := ⟨(HD2.out.1.below hb3).low (by omega), (HD2.out.2.1.below hb3).low (by omega), fun q h1 h2 => by
    have e1 : g = q := by simpa using h1
    have e2 : g' = q := by simpa using h2
    exact HD2.out.2.2 (by omega), hrow.low (by omega), HUl.out⟩
  have HM : Hid (l'.map UE.u = l.map UE.u ∧ ∀ e ∈ l', e.n ≤ 1048576) := ⟨hmap, hsz⟩
  clear hb3 hrow hmap hsz hO3 hR3 HO2 HR2 HD2
  go_wp2
  refine bodyPost_ret (v := .agg #[.slice (some ⟨g, 0, none⟩) n n, .slice (some ⟨g', 0, none⟩) n' n', .int .i64 ep, .int .i64 nx, .slice (some ⟨gu, 0, none⟩) un un]) (by simp [results, Tryz.f35, go_sem, a0, a1, a2, a3, a4]) rfl ?_
  refine ⟨⟨g, g', gu, l', rfl, ?_, HM.out⟩, ?_⟩
  · exact (((((HSt.out.setLow (by omega) _).setLow (by omega) _).setLow (by omega) _).setLow (by omega) _).setLow (by omega) _ |>.setLow (by omega) _).low (by omega)
  · exact (((((HB3.out.setCell (by dsimp only; omega) _).setCell (by dsimp only; omega) _).setCell (by dsimp only; omega) _).setCell (by dsimp only; omega) _).setCell (by dsimp only; omega) _).setCell (by dsimp only; omega) _

end Go.Proofs.YtogopmngbjkcjavGreatDoor
