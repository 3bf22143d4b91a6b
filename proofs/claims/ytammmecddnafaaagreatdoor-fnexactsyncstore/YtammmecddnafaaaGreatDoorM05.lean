/- Rows of texts against themselves. Disks held against themselves. What the laws' own functions do with a disk: the size, the copy. The laws' copy of a disk. What the laws' own functions do with stores: the size, the copy. Uploads held against themselves. Stores held against themselves. Rows whose blocks are as they were. No program in it. What is written lies between two bounds. No program in it. A store, and an upload, in a variable of the law's: where its rows lie. No statement of the program but its table of types. Blocks of one type that stay while those of others are written. No program in it but its table of types. The mark of a number as a text. What the marks do: a row of the call's own is written over with 1, 2, .., and read again; nothing else is written. For rows of at most 2^41 bytes. -/
import Derived.Test.YtammmecddnafaaaGreatDoorM03
import Derived.Test.YtammmecddnafaaaGreatDoorM04
import Derived.Deep.CutBlock
import Derived.Test.YtammmecddnafaaaGreatDoorM01
import Derived.Laws.IdiomStrings
import Derived.Laws.BytesArg
import Derived.Deep.QuietTactic
import Derived.BigQuiet
namespace Go.Proofs.YtammmecddnafaaaGreatDoor
open Go.RowKit
set_option linter.unusedVariables false

set_option maxHeartbeats 400000 in
theorem eqStrS_same (a b : Option Addr) (len ca cb : Nat) (xs : List ByteArray) (w : World) (hx : Strs w a len xs) (hy : Strs w b len xs) (hla : len ≤ 1099511627776) :
    Calls Tryz.prog 72 #[.slice a len ca, .slice b len cb] w fun e w' => e = .returned (.bool true) ∧ Below w.heap.size w w' := by
  have HX : Hid (Strs w a len xs) := hx
  have HY : Hid (Strs w b len xs) := hy
  clear hx hy
  have hne : ((len : Int) != (len : Int)) = false := by simp
  go_enter Tryz.func72, Tryz.ntmps72
  go_wp2
  go_loopw [5] (fun i wr => ∃ k : Nat, k ≤ len ∧ i = .int .i64 k ∧ Hid (Below w.heap.size w wr)) (fun i _ => len - (intOf i).toNat)
  case atStart => exact ⟨0, Nat.zero_le _, rfl, Below.refl _ _⟩
  case round =>
    obtain ⟨k, hk, rfl, HW⟩ := hrel
    by_cases hlt : k < len
    · obtain ⟨ba, oa, x, rfl, hba, hfa, ha0⟩ := HX.out.at hlt
      obtain ⟨bb, ob, x', rfl, hbb, hfb, hb0⟩ := HY.out.at hlt
      obtain rfl : x = x' := by rw [hfa] at hfb; simpa using hfb
      have ga0 : wr.cell? ⟨ba, oa + k, none⟩ = some (.string x) := (HW.out.cell (p := ⟨ba, _, none⟩) hba).trans ha0
      have gb0 : wr.cell? ⟨bb, ob + k, none⟩ = some (.string x) := (HW.out.cell (p := ⟨bb, _, none⟩) hbb).trans hb0
      clear hfa hfb ha0 hb0
      have hxx : (x.toList != x.toList) = false := by simp
      have hki : (k : Int) < (len : Int) := by omega
      have hk0 : (0 : Int) ≤ (k : Int) := by omega
      go_wp2
      go_quiet (fail)
      go_wp2
      go_roundw
      case rel => exact ⟨k + 1, by omega, by go_num, ⟨HW.out.os, HW.out.tape, HW.out.output, HW.out.size, HW.out.block⟩⟩
      case measure => simp [intOf]; omega
    · go_wp2
      go_ret
      exact ⟨rfl, HW.out⟩

end Go.Proofs.YtammmecddnafaaaGreatDoor

namespace Go.Proofs.YtammmecddnafaaaGreatDoor
open Go.RowKit
set_option linter.unusedVariables false

set_option maxHeartbeats 800000 in
theorem eqDisk_same (a b : Option Addr) (n ca cb : Nat) (xs : List ByteArray) (a' b' : Option Addr) (n' ca' cb' : Nat) (ys : List ByteArray) (w : World) (h1 : Strs w a n xs) (h2 : Strs w b n xs) (h3 : Strs w a' n' ys) (h4 : Strs w b' n' ys) (hn : n ≤ 1099511627776) (hn' : n' ≤ 1099511627776) :
    Calls Tryz.prog 37 #[.agg #[.slice a n ca, .slice a' n' ca'], .agg #[.slice b n cb, .slice b' n' cb']] w fun r w' => r = .returned (.bool true) ∧ Below w.heap.size w w' := by
  have HX : Hid (∀ W, Below w.heap.size w W → Strs W a n xs ∧ Strs W b n xs ∧ Strs W a' n' ys ∧ Strs W b' n' ys) := fun W h => ⟨h1.below h, h2.below h, h3.below h, h4.below h⟩
  clear h1 h2 h3 h4
  go_enter Tryz.func37, Tryz.ntmps37
  go_wp2_with fail
  have hba : Below w.heap.size w ((w.alloc (Obj.cells #[Value.slice a n ca, Value.slice a' n' ca'] 29)).alloc (Obj.cells #[Value.slice b n cb, Value.slice b' n' cb'] 29)) := ((Below.refl _ _).alloc (Nat.le_refl _) _).alloc (by simp) _
  have HA : Hid (Box2R ((w.alloc (Obj.cells #[Value.slice a n ca, Value.slice a' n' ca'] 29)).alloc (Obj.cells #[Value.slice b n cb, Value.slice b' n' cb'] 29)) w.heap.size 29 (.slice a n ca) (.slice a' n' ca')) := (Box2R.new _ _ _ _).alloc _
  have HC : Hid (Box2R ((w.alloc (Obj.cells #[Value.slice a n ca, Value.slice a' n' ca'] 29)).alloc (Obj.cells #[Value.slice b n cb, Value.slice b' n' cb'] 29)) (w.heap.size + 1) 29 (.slice b n cb) (.slice b' n' cb')) := by
    have := Box2R.new (w.alloc (Obj.cells #[Value.slice a n ca, Value.slice a' n' ca'] 29)) 29 (.slice b n cb) (.slice b' n' cb')
    rwa [World.size_alloc] at this
  have HB : Hid (Below w.heap.size w _) := hba
  clear hba
  refine (eqStrS_same a b n ca cb xs _ (HX.out _ HB.out).1 (HX.out _ HB.out).2.1 hn).mono ?_
  rintro r x3 ⟨rfl, hb3⟩
  have HB3 : Hid (Below w.heap.size w x3) := HB.out.trans (hb3.mono HB.out.size)
  obtain ⟨c0, c1⟩ := (HA.out.stays hb3).cells
  obtain ⟨d0, d1⟩ := (HC.out.stays hb3).cells
  clear hb3 HA HC HB
  go_wp2_with fail
  refine (eqStrS_same a' b' n' ca' cb' ys _ (HX.out _ HB3.out).2.2.1 (HX.out _ HB3.out).2.2.2 hn').mono ?_
  rintro r x4 ⟨rfl, hb4⟩
  have HB4 : Hid (Below w.heap.size w x4) := HB3.out.trans (hb4.mono HB3.out.size)
  clear hb4 HB3 c0 c1 d0 d1
  go_wp2_with fail
  go_ret
  exact ⟨rfl, HB4.out⟩

end Go.Proofs.YtammmecddnafaaaGreatDoor

namespace Go.Proofs.YtammmecddnafaaaGreatDoor
open Go.RowKit
set_option linter.unusedVariables false

set_option maxHeartbeats 800000 in
theorem szDisk_any (a : Option Addr) (n ca : Nat) (xs : List ByteArray) (a' : Option Addr) (n' ca' : Nat) (ys : List ByteArray) (m : Int) (w : World) (h1 : Strs w a n xs) (h3 : Strs w a' n' ys) (hm : 0 ≤ m) (hm2 : m ≤ 1048576) (hn : n ≤ maxLen) (hn' : n' ≤ maxLen) :
    Calls Tryz.prog 23 #[.agg #[.slice a n ca, .slice a' n' ca'], .int .i64 m] w fun r w' => (∃ v : Int, r = .returned (.int .i64 v) ∧ v ≤ m ∧ (0 ≤ v → v + (n + strBytes xs) + (n' + strBytes ys) ≤ m)) ∧ Below w.heap.size w w' := by
  have HX : Hid (∀ W, Below w.heap.size w W → Strs W a n xs ∧ Strs W a' n' ys) := fun W h => ⟨h1.below h, h3.below h⟩
  clear h1 h3
  have HA : Hid (Box2R (w.alloc (Obj.cells #[Value.slice a n ca, Value.slice a' n' ca'] 24)) w.heap.size 24 (.slice a n ca) (.slice a' n' ca')) := Box2R.new _ _ _ _
  have HB : Hid (Below w.heap.size w (w.alloc (Obj.cells #[Value.slice a n ca, Value.slice a' n' ca'] 24))) := (Below.refl _ _).alloc (Nat.le_refl _) _
  go_enter Tryz.func23, Tryz.ntmps23
  go_wp2_with fail
  refine (szStrS_any a n ca xs m _ (HX.out _ HB.out).1 hm hm2 hn).mono ?_
  rintro r x3 ⟨⟨v, rfl, hvm, hv⟩, hb3⟩
  have HB3 : Hid (Below w.heap.size w x3) := HB.out.trans (hb3.mono HB.out.size)
  obtain ⟨c0, c1⟩ := (HA.out.stays hb3).cells
  clear hb3 HA HB
  by_cases hneg : v < 0
  · go_wp2_with fail
    go_ret
    exact ⟨⟨_, rfl, by omega, by omega⟩, HB3.out⟩
  have HV : Hid (v + (n + strBytes xs) ≤ m) := hv (by omega)
  clear hv
  go_wp2_with fail
  refine (szStrS_any a' n' ca' ys v _ (HX.out _ HB3.out).2 (by omega) (by omega) hn').mono ?_
  rintro r x4 ⟨⟨v4, rfl, hvm4, hv4⟩, hb4⟩
  have HB4 : Hid (Below w.heap.size w x4) := HB3.out.trans (hb4.mono HB3.out.size)
  have HV4 : Hid (0 ≤ v4 → v4 + (n' + strBytes ys) ≤ v) := hv4
  clear hb4 HB3 c0 c1 hv4
  by_cases hneg4 : v4 < 0
  · go_wp2_with fail
    go_ret
    exact ⟨⟨_, rfl, by omega, by omega⟩, HB4.out⟩
  go_wp2_with fail
  go_ret
  refine ⟨⟨_, rfl, by omega, fun h => ?_⟩, HB4.out⟩
  have h1 := HV.out
  have h2 := HV4.out h
  omega

end Go.Proofs.YtammmecddnafaaaGreatDoor

namespace Go.Proofs.YtammmecddnafaaaGreatDoor
open Go.RowKit
set_option linter.unusedVariables false

set_option maxHeartbeats 800000 in
theorem toDisk_any (a : Option Addr) (n ca : Nat) (xs : List ByteArray) (a' : Option Addr) (n' ca' : Nat) (ys : List ByteArray) (w : World) (h1 : Strs w a n xs) (h3 : Strs w a' n' ys) (hn : n ≤ 1048576) (hn' : n' ≤ 1048576) :
    Calls Tryz.prog 32 #[.agg #[.slice a n ca, .slice a' n' ca']] w fun r w' => ∃ g g', r = .returned (.agg #[.slice (some ⟨g, 0, none⟩) n n, .slice (some ⟨g', 0, none⟩) n' n']) ∧ g ≠ g' ∧ OwnSt w' w.heap.size (.slice (some ⟨g, 0, none⟩) n n) n xs ∧ OwnSt w' w.heap.size (.slice (some ⟨g', 0, none⟩) n' n') n' ys ∧ Below w.heap.size w w' := by
  have HX : Hid (∀ W, Below w.heap.size w W → Strs W a n xs ∧ Strs W a' n' ys) := fun W h => ⟨h1.below h, h3.below h⟩
  clear h1 h3
  go_enter Tryz.func32, Tryz.ntmps32
  go_wp2_with fail
  obtain ⟨w0, hw0⟩ : ∃ w0, ((w.alloc (Obj.cells #[Value.slice a n ca, Value.slice a' n' ca'] 24)).alloc (Obj.cells #[Value.slice none 0 0, Value.slice none 0 0] 29)).alloc (Obj.cells #[Value.slice none 0 0, Value.slice none 0 0] 29) = w0 := ⟨_, rfl⟩
  have HB : Hid (Below w.heap.size w w0) := by
    rw [← hw0]
    exact (((Below.refl _ _).alloc (Nat.le_refl _) _).alloc (by simp) _).alloc (by simp; omega) _
  have HZ : Hid (w0.heap.size = w.heap.size + 3) := by show _ = _; rw [← hw0]; simp
  have HA : Hid (Box2R w0 w.heap.size 24 (.slice a n ca) (.slice a' n' ca')) := by
    rw [← hw0]
    exact ((Box2R.new _ _ _ _).alloc _).alloc _
  have HR : Hid (Box2R w0 (w.heap.size + 1) 29 (.slice none 0 0) (.slice none 0 0)) := by
    have := (Box2R.new (w.alloc (Obj.cells #[Value.slice a n ca, Value.slice a' n' ca'] 24)) 29 (.slice none 0 0) (.slice none 0 0)).alloc (Obj.cells #[Value.slice none 0 0, Value.slice none 0 0] 29)
    rw [World.size_alloc, hw0] at this
    exact this
  have HO : Hid (Box2R w0 (w.heap.size + 1 + 1) 29 (.slice none 0 0) (.slice none 0 0)) := by
    have := Box2R.new ((w.alloc (Obj.cells #[Value.slice a n ca, Value.slice a' n' ca'] 24)).alloc (Obj.cells #[Value.slice none 0 0, Value.slice none 0 0] 29)) 29 (.slice none 0 0) (.slice none 0 0)
    rw [World.size_alloc, World.size_alloc, hw0] at this
    exact this
  rw [hw0]
  clear hw0
  refine (toStrS_own a n ca xs _ (HX.out _ HB.out).1 hn).mono ?_
  rintro r x1 ⟨rfl, ho1, hb1⟩
  generalize hg : w0.heap.size = g at *
  have HO1 : Hid (OwnSt x1 w.heap.size (.slice (some ⟨g, 0, none⟩) n n) n xs) := ho1.low (by have := HZ.out; omega)
  have HB1 : Hid (Below w.heap.size w x1) := HB.out.trans (hb1.mono (by have := HZ.out; omega))
  have HA1 : Hid (Box2R x1 w.heap.size 24 (.slice a n ca) (.slice a' n' ca')) := HA.out.stays (by rw [hg]; exact hb1)
  have HV1 : Hid (Box2R x1 (w.heap.size + 1 + 1) 29 (.slice none 0 0) (.slice none 0 0)) := HO.out.stays (by rw [hg]; exact hb1)
  have hgg : w.heap.size + 1 + 1 < g := by have := HZ.out; omega
  have HR1 : Hid (Box2R x1 (w.heap.size + 1) 29 (.slice none 0 0) (.slice none 0 0)) := HR.out.stays (by rw [hg]; exact hb1)
  clear ho1 hb1 HA HO HB HZ HR hg
  obtain ⟨c0, c1⟩ := HA1.out.cells
  obtain ⟨d0, d1⟩ := HV1.out.cells
  have f0 := HV1.out.frozen 0
  go_wp2_with fail
  obtain ⟨x2, hx2⟩ : ∃ x2, x1.setCell ⟨w.heap.size + 1 + 1, 0, none⟩ (.slice (some ⟨g, 0, none⟩) n n) = x2 := ⟨_, rfl⟩
  have HO2 : Hid (OwnSt x2 w.heap.size (.slice (some ⟨g, 0, none⟩) n n) n xs) := by
    rw [← hx2]
    exact HO1.out.setCell (by simp [blkOf]; omega) _
  have HB2 : Hid (Below w.heap.size w x2) := by
    rw [← hx2]
    exact HB1.out.setCell (by dsimp only; omega) _
  have HA2 : Hid (Box2R x2 w.heap.size 24 (.slice a n ca) (.slice a' n' ca')) := by
    rw [← hx2]
    exact HA1.out.other (by omega) _
  have HV2 : Hid (Box2R x2 (w.heap.size + 1 + 1) 29 (.slice (some ⟨g, 0, none⟩) n n) (.slice none 0 0)) := by
    rw [← hx2]
    exact HV1.out.set0 _
  have HR2 : Hid (Box2R x2 (w.heap.size + 1) 29 (.slice none 0 0) (.slice none 0 0)) := by
    rw [← hx2]
    exact HR1.out.other (by omega) _
  rw [hx2]
  clear hx2 HR1 HO1 HB1 HA1 HV1 c0 c1 d0 d1 f0
  refine (toStrS_own a' n' ca' ys _ (HX.out _ HB2.out).2 hn').mono ?_
  rintro r x3 ⟨rfl, ho3, hb3⟩
  have hgx : g < x2.heap.size := (HO2.out.lt g rfl).2
  generalize hg' : x2.heap.size = g' at *
  have HO3 : Hid (OwnSt x3 w.heap.size (.slice (some ⟨g, 0, none⟩) n n) n xs) := HO2.out.below (by rw [hg']; exact hb3)
  have HP3 : Hid (OwnSt x3 w.heap.size (.slice (some ⟨g', 0, none⟩) n' n') n' ys) := ho3.low (by omega)
  have HB3 : Hid (Below w.heap.size w x3) := HB2.out.trans (hb3.mono (by omega))
  have HV3 : Hid (Box2R x3 (w.heap.size + 1 + 1) 29 (.slice (some ⟨g, 0, none⟩) n n) (.slice none 0 0)) := HV2.out.stays (by rw [hg']; exact hb3)
  have HR3 : Hid (Box2R x3 (w.heap.size + 1) 29 (.slice none 0 0) (.slice none 0 0)) := HR2.out.stays (by rw [hg']; exact hb3)
  clear ho3 hb3 HA2 HV2 HO2 HB2 HR2 hg'
  obtain ⟨d0, d1⟩ := HV3.out.cells
  have f1 := HV3.out.frozen 1
  obtain ⟨e0, e1⟩ := (HV3.out.set1 (.slice (some ⟨g', 0, none⟩) n' n')).cells
  obtain ⟨r0, r1⟩ := HR3.out.cells
  have s0 := HR3.out.frozen 0
  have s1 := HR3.out.frozen 1
  go_wp2_with fail
  refine bodyPost_ret (v := .agg #[.slice (some ⟨g, 0, none⟩) n n, .slice (some ⟨g', 0, none⟩) n' n']) (by simp [results, Tryz.f32, go_sem, r0, r1]) rfl ?_
  refine ⟨g, g', rfl, by omega, ((HO3.out.setCell (by simp [blkOf]; omega) _).setCell (by simp [blkOf]; omega) _).setCell (by simp [blkOf]; omega) _, ((HP3.out.setCell (by simp [blkOf]; omega) _).setCell (by simp [blkOf]; omega) _).setCell (by simp [blkOf]; omega) _, ((HB3.out.setCell (by dsimp only; omega) _).setCell (by dsimp only; omega) _).setCell (by dsimp only; omega) _⟩

end Go.Proofs.YtammmecddnafaaaGreatDoor

namespace Go.Proofs.YtammmecddnafaaaGreatDoor
open Go.RowKit
set_option linter.unusedVariables false

/-- How great a store may be. -/
def SzS (n : Nat) (X : List ByteArray) (n' : Nat) (Y : List ByteArray) (un : Nat) (l : List UE) : Prop := n ≤ 1048576 ∧ n' ≤ 1048576 ∧ (∀ x ∈ X, x.size ≤ 1048576) ∧ (∀ y ∈ Y, y.size ≤ 1048576) ∧ SzU un l

set_option maxRecDepth 10000 in
set_option maxHeartbeats 800000 in
theorem szStore_any (a : Option Addr) (n ca : Nat) (X : List ByteArray) (a' : Option Addr) (n' ca' : Nat) (Y : List ByteArray) (ep nx : Int) (ua : Option Addr) (un uc : Nat) (l : List UE) (w : World) (h1 : Strs w a n X) (h2 : Strs w a' n' Y) (hu : UpsI w ua un l) (hn : n ≤ maxLen) (hn' : n' ≤ maxLen) (hun : un ≤ maxLen) :
    Calls Tryz.prog 7 #[.agg #[.slice a n ca, .slice a' n' ca', .int .i64 ep, .int .i64 nx, .slice ua un uc], .int .i64 1048576] w fun r w' => (∃ L : Int, r = .returned (.int .i64 L) ∧ (L < 0 ∨ (SzS n X n' Y un l ∧ 0 ≤ L ∧ L ≤ 1048576))) ∧ Below w.heap.size w w' := by
  have HX : Hid (∀ W, Below w.heap.size w W → Strs W a n X ∧ Strs W a' n' Y ∧ UpsI W ua un l) := fun W h => ⟨h1.below h, h2.below h, hu.below h⟩
  have HA : Hid (BoxN (w.alloc (.cells #[.slice a n ca, .slice a' n' ca', .int .i64 ep, .int .i64 nx, .slice ua un uc] 27)) w.heap.size 27 [.slice a n ca, .slice a' n' ca', .int .i64 ep, .int .i64 nx, .slice ua un uc]) := BoxN.new _ _ _
  have HB : Hid (Below w.heap.size w (w.alloc (.cells #[.slice a n ca, .slice a' n' ca', .int .i64 ep, .int .i64 nx, .slice ua un uc] 27))) := (Below.refl _ _).alloc (Nat.le_refl _) _
  clear h1 h2 hu
  go_enter Tryz.func7, Tryz.ntmps7
  go_wp2_with fail
  refine (szDisk_any a n ca X a' n' ca' Y 1048576 _ (HX.out _ HB.out).1 (HX.out _ HB.out).2.1 (by omega) (by omega) hn hn').mono ?_
  rintro _ x1 ⟨⟨v, rfl, hv1, hv2⟩, hb1⟩
  have HV : Hid (v ≤ 1048576 ∧ (0 ≤ v → v + (n + strBytes X) + (n' + strBytes Y) ≤ 1048576)) := ⟨hv1, hv2⟩
  have HB1 : Hid (Below w.heap.size w x1) := HB.out.trans (hb1.mono HB.out.size)
  have c4 := (HA.out.stays hb1).cell 4 rfl
  clear hb1 hv1 hv2
  by_cases hneg : v < 0
  · go_wp2_with fail
    go_ret
    exact ⟨⟨-1, rfl, .inl (by omega)⟩, HB1.out⟩
  have hv0 : 0 ≤ v := by omega
  have hvm : v ≤ 1048576 := HV.out.1
  go_wp2_with fail
  refine (szUpS_any ua un uc l v x1 (HX.out _ HB1.out).2.2 hv0 hvm hun).mono ?_
  rintro _ x2 ⟨⟨L, rfl, hL⟩, hb2⟩
  have HL : Hid (L < 0 ∨ (SzU un l ∧ 0 ≤ L ∧ L ≤ v)) := hL
  have HB2 : Hid (Below w.heap.size w x2) := HB1.out.trans (hb2.mono HB1.out.size)
  clear hb2 hL c4
  by_cases hneg2 : L < 0
  · go_wp2_with fail
    go_ret
    exact ⟨⟨-1, rfl, .inl (by omega)⟩, HB2.out⟩
  have HS : Hid (SzS n X n' Y un l) := by
    have h1 := HV.out.2 hv0
    refine ⟨by omega, by omega, fun x hx => ?_, fun y hy => ?_, ?_⟩
    · have := strBytes_mem X x hx; omega
    · have := strBytes_mem Y y hy; omega
    · rcases HL.out with h | h
      · exact absurd h hneg2
      · exact h.1
  go_wp2_with fail
  go_ret
  exact ⟨⟨L, rfl, .inr ⟨HS.out, by omega, by rcases HL.out with h | h <;> omega⟩⟩, HB2.out⟩

set_option maxRecDepth 10000 in
set_option maxHeartbeats 1600000 in
theorem toStore_any (a : Option Addr) (n ca : Nat) (X : List ByteArray) (a' : Option Addr) (n' ca' : Nat) (Y : List ByteArray) (ep nx : Int) (ua : Option Addr) (un uc : Nat) (l : List UE) (w : World) (h1 : Strs w a n X) (h2 : Strs w a' n' Y) (hu : UpsI w ua un l) (hs : SzS n X n' Y un l) :
    Calls Tryz.prog 9 #[.agg #[.slice a n ca, .slice a' n' ca', .int .i64 ep, .int .i64 nx, .slice ua un uc]] w fun r w' => (∃ g g' gu l', r = .returned (.agg #[.slice (some ⟨g, 0, none⟩) n n, .slice (some ⟨g', 0, none⟩) n' n', .int .i64 ep, .int .i64 nx, .slice (some ⟨gu, 0, none⟩) un un]) ∧ StoAt w' w.heap.size (some ⟨g, 0, none⟩) n n X (some ⟨g', 0, none⟩) n' n' Y (some ⟨gu, 0, none⟩) un un l' ∧ l'.map UE.u = l.map UE.u ∧ ∀ e ∈ l', e.n ≤ 1048576) ∧ Below w.heap.size w w' := by
  have HX : Hid (∀ W, Below w.heap.size w W → Strs W a n X ∧ Strs W a' n' Y ∧ UpsI W ua un l) := fun W h => ⟨h1.below h, h2.below h, hu.below h⟩
  have HS : Hid (SzS n X n' Y un l) := hs
  have HLu : Hid (l.length = un) := hu.1
  clear h1 h2 hu hs
  obtain ⟨W0, hW0⟩ : ∃ W0, ((w.alloc (.cells #[.slice a n ca, .slice a' n' ca', .int .i64 ep, .int .i64 nx, .slice ua un uc] 27)).alloc (.cells #[.slice none 0 0, .slice none 0 0, .int .i64 0, .int .i64 0, .slice none 0 0] 32)).alloc (.cells #[.slice none 0 0, .slice none 0 0, .int .i64 0, .int .i64 0, .slice none 0 0] 32) = W0 := ⟨_, rfl⟩
  have HE : Hid (((w.alloc (.cells #[.slice a n ca, .slice a' n' ca', .int .i64 ep, .int .i64 nx, .slice ua un uc] 27)).alloc (.cells #[.slice none 0 0, .slice none 0 0, .int .i64 0, .int .i64 0, .slice none 0 0] 32)).alloc (.cells #[.slice none 0 0, .slice none 0 0, .int .i64 0, .int .i64 0, .slice none 0 0] 32) = W0) := hW0
  have HB : Hid (Below w.heap.size w W0) := by show Below _ _ _; rw [← hW0]; exact (((Below.refl _ _).alloc (Nat.le_refl _) _).alloc (by simp) _).alloc (by simp; omega) _
  have HI : Hid (BoxN W0 w.heap.size 27 [.slice a n ca, .slice a' n' ca', .int .i64 ep, .int .i64 nx, .slice ua un uc]) := by show BoxN _ _ _ _; rw [← hW0]; exact ((BoxN.new _ _ _).alloc _).alloc _
  have HR : Hid (BoxN W0 (w.heap.size + 1) 32 [.slice none 0 0, .slice none 0 0, .int .i64 0, .int .i64 0, .slice none 0 0]) := by
    show BoxN _ _ _ _
    rw [← hW0]
    have := (BoxN.new (w.alloc (.cells #[.slice a n ca, .slice a' n' ca', .int .i64 ep, .int .i64 nx, .slice ua un uc] 27)) 32 [.slice none 0 0, .slice none 0 0, .int .i64 0, .int .i64 0, .slice none 0 0]).alloc (.cells #[.slice none 0 0, .slice none 0 0, .int .i64 0, .int .i64 0, .slice none 0 0] 32)
    rw [World.size_alloc] at this
    exact this
  have HO : Hid (BoxN W0 (w.heap.size + 1 + 1) 32 [.slice none 0 0, .slice none 0 0, .int .i64 0, .int .i64 0, .slice none 0 0]) := by
    show BoxN _ _ _ _
    rw [← hW0]
    have := BoxN.new ((w.alloc (.cells #[.slice a n ca, .slice a' n' ca', .int .i64 ep, .int .i64 nx, .slice ua un uc] 27)).alloc (.cells #[.slice none 0 0, .slice none 0 0, .int .i64 0, .int .i64 0, .slice none 0 0] 32)) 32 [.slice none 0 0, .slice none 0 0, .int .i64 0, .int .i64 0, .slice none 0 0]
    rw [World.size_alloc, World.size_alloc] at this
    exact this
  clear hW0
  have c0 := HI.out.cell 0 rfl
  have c1 := HI.out.cell 1 rfl
  go_enter Tryz.func9, Tryz.ntmps9
  go_upto_region 2 with fail
  rw [HE.out]
  clear HE
  go_wp2_with fail
  refine (toDisk_any a n ca X a' n' ca' Y W0 (HX.out _ HB.out).1 (HX.out _ HB.out).2.1 HS.out.1 HS.out.2.1).mono ?_
  rintro _ x1 ⟨g, g', rfl, hgg, ho1, ho2, hb1⟩
  have HO1 : Hid (OwnSt x1 W0.heap.size (.slice (some ⟨g, 0, none⟩) n n) n X ∧ OwnSt x1 W0.heap.size (.slice (some ⟨g', 0, none⟩) n' n') n' Y ∧ g ≠ g') := ⟨ho1, ho2, hgg⟩
  have HB1 : Hid (Below W0.heap.size W0 x1) := hb1
  have hi1 := HI.out.stays hb1
  have ho1' := HO.out.stays hb1
  have c2 := hi1.cell 2 rfl
  have c3 := hi1.cell 3 rfl
  have c4 := hi1.cell 4 rfl
  have o0 := ho1'.cell 0 rfl
  have o1 := ho1'.cell 1 rfl
  have o2 := ho1'.cell 2 rfl
  have o3 := ho1'.cell 3 rfl
  have f0 := ho1'.frozen 0
  have f1 := ho1'.frozen 1
  have f2 := ho1'.frozen 2
  have f3 := ho1'.frozen 3
  obtain ⟨x2, hx2⟩ : ∃ x2, ((((x1.setCell ⟨w.heap.size + 1 + 1, 0, none⟩ (.slice (some ⟨g, 0, none⟩) n n)).setCell ⟨w.heap.size + 1 + 1, 1, none⟩ (.slice (some ⟨g', 0, none⟩) n' n')).setCell ⟨w.heap.size + 1 + 1, 2, none⟩ (.int .i64 ep)).setCell ⟨w.heap.size + 1 + 1, 3, none⟩ (.int .i64 nx)) = x2 := ⟨_, rfl⟩
  have HE2 : Hid (((((x1.setCell ⟨w.heap.size + 1 + 1, 0, none⟩ (.slice (some ⟨g, 0, none⟩) n n)).setCell ⟨w.heap.size + 1 + 1, 1, none⟩ (.slice (some ⟨g', 0, none⟩) n' n')).setCell ⟨w.heap.size + 1 + 1, 2, none⟩ (.int .i64 ep)).setCell ⟨w.heap.size + 1 + 1, 3, none⟩ (.int .i64 nx)) = x2) := hx2
  have hlt : w.heap.size + 1 + 1 < W0.heap.size := HO.out.lt
  have hbs : Below W0.heap.size W0 x1 := HB1.out
  have HB2 : Hid (Below w.heap.size w x2) := by
    show Below _ _ _
    rw [← hx2]
    exact ((((HB.out.trans (hbs.mono HB.out.size)).setCell (by dsimp only; omega) _).setCell (by dsimp only; omega) _).setCell (by dsimp only; omega) _).setCell (by dsimp only; omega) _
  have HO2 : Hid (BoxN x2 (w.heap.size + 1 + 1) 32 [.slice (some ⟨g, 0, none⟩) n n, .slice (some ⟨g', 0, none⟩) n' n', .int .i64 ep, .int .i64 nx, .slice none 0 0]) := by
    show BoxN _ _ _ _
    rw [← hx2]
    exact (((ho1'.set 0 _).set 1 _).set 2 _).set 3 _
  have HR2 : Hid (BoxN x2 (w.heap.size + 1) 32 [.slice none 0 0, .slice none 0 0, .int .i64 0, .int .i64 0, .slice none 0 0]) := by
    show BoxN _ _ _ _
    rw [← hx2]
    exact ((((HR.out.stays hb1).other (by omega) _).other (by omega) _).other (by omega) _).other (by omega) _
  have hgs : W0.heap.size ≤ g := (ho1.lt g rfl).1
  have hgs' : W0.heap.size ≤ g' := (ho2.lt g' rfl).1
  have HD2 : Hid (OwnSt x2 W0.heap.size (.slice (some ⟨g, 0, none⟩) n n) n X ∧ OwnSt x2 W0.heap.size (.slice (some ⟨g', 0, none⟩) n' n') n' Y ∧ g ≠ g') := by
    refine ⟨?_, ?_, hgg⟩
    · rw [← hx2]
      exact (((ho1.setCell (by simp [blkOf]; omega) _).setCell (by simp [blkOf]; omega) _).setCell (by simp [blkOf]; omega) _).setCell (by simp [blkOf]; omega) _
    · rw [← hx2]
      exact (((ho2.setCell (by simp [blkOf]; omega) _).setCell (by simp [blkOf]; omega) _).setCell (by simp [blkOf]; omega) _).setCell (by simp [blkOf]; omega) _
  clear hx2 hi1 ho1' hb1 HI HR HO HO1 hgs hgs' ho1 ho2 hgg hbs
  go_wp2_with fail
  rw [HE2.out]
  clear HE2 c0 c1 c2 c3 c4 o0 o1 o2 o3 f0 f1 f2 f3
  refine (toUpS_any ua un uc l x2 (HX.out _ HB2.out).2.2 HS.out.2.2.2.2).mono ?_
  rintro _ x3 ⟨⟨gu, l', rfl, hrow, hmap, hsz⟩, hb3⟩
  have HB3 : Hid (Below w.heap.size w x3) := HB2.out.trans (hb3.mono HB2.out.size)
  have hO3 := HO2.out.stays hb3
  have hR3 := HR2.out.stays hb3
  have hx2l : w.heap.size + 1 + 1 < x2.heap.size := HO2.out.lt
  have hw0l : w.heap.size + 1 + 1 < W0.heap.size := hlt
  have b0 := hO3.cell 0 rfl
  have b1 := hO3.cell 1 rfl
  have b2 := hO3.cell 2 rfl
  have b3 := hO3.cell 3 rfl
  have b4 := hO3.cell 4 rfl
  have z4 := hO3.frozen 4
  have a0 := hR3.cell 0 rfl
  have a1 := hR3.cell 1 rfl
  have a2 := hR3.cell 2 rfl
  have a3 := hR3.cell 3 rfl
  have a4 := hR3.cell 4 rfl
  have e0 := hR3.frozen 0
  have e1 := hR3.frozen 1
  have e2 := hR3.frozen 2
  have e3 := hR3.frozen 3
  have e4 := hR3.frozen 4
  have HUl : Hid (un = l'.length) := by
    show _ = _
    have h1 := congrArg List.length hmap
    rw [List.length_map, List.length_map, HLu.out] at h1
    exact h1.symm
  have HSt : Hid (StoAt x3 (w.heap.size + 1 + 1 + 1) (some ⟨g, 0, none⟩) n n X (some ⟨g', 0, none⟩) n' n' Y (some ⟨gu, 0, none⟩) un un l') := ⟨(HD2.out.1.below hb3).low (by omega), (HD2.out.2.1.below hb3).low (by omega), fun q h1 h2 => by
    have e1 : g = q := by simpa using h1
    have e2 : g' = q := by simpa using h2
    exact HD2.out.2.2 (by omega), hrow.low (by omega), HUl.out⟩
  have HM : Hid (l'.map UE.u = l.map UE.u ∧ ∀ e ∈ l', e.n ≤ 1048576) := ⟨hmap, hsz⟩
  clear hb3 hrow hmap hsz hO3 hR3 HO2 HR2 HD2
  go_wp2
  refine bodyPost_ret (v := .agg #[.slice (some ⟨g, 0, none⟩) n n, .slice (some ⟨g', 0, none⟩) n' n', .int .i64 ep, .int .i64 nx, .slice (some ⟨gu, 0, none⟩) un un]) (by simp [results, Tryz.f9, go_sem, a0, a1, a2, a3, a4]) rfl ?_
  refine ⟨⟨g, g', gu, l', rfl, ?_, HM.out⟩, ?_⟩
  · exact (((((HSt.out.setLow (by omega) _).setLow (by omega) _).setLow (by omega) _).setLow (by omega) _).setLow (by omega) _ |>.setLow (by omega) _).low (by omega)
  · exact (((((HB3.out.setCell (by dsimp only; omega) _).setCell (by dsimp only; omega) _).setCell (by dsimp only; omega) _).setCell (by dsimp only; omega) _).setCell (by dsimp only; omega) _).setCell (by dsimp only; omega) _

end Go.Proofs.YtammmecddnafaaaGreatDoor

namespace Go.Proofs.YtammmecddnafaaaGreatDoor
open Go.RowKit
set_option linter.unusedVariables false

set_option maxRecDepth 10000 in
set_option maxHeartbeats 1600000 in
theorem eqUp_same (x y : UE) (w : World) (hx : Seg w x.a x.n x.u.zs) (hy : Seg w y.a y.n y.u.zs) (hu : x.u = y.u) (hl : x.n ≤ 1099511627776) :
    Calls Tryz.prog 73 #[.agg #[.string x.u.id, .int .i64 x.u.want, .slice x.a x.n x.c, .bool x.u.done], .agg #[.string y.u.id, .int .i64 y.u.want, .slice y.a y.n y.c, .bool y.u.done]] w fun r w' => r = .returned (.bool true) ∧ Below w.heap.size w w' := by
  obtain ⟨u, a, n, c⟩ := x
  obtain ⟨u', b, m, d⟩ := y
  dsimp only at *
  subst hu
  obtain rfl : n = m := by rw [← hx.1, ← hy.1]
  have HX : Hid (Seg w a n u.zs) := hx
  have HY : Hid (Seg w b n u.zs) := hy
  clear hx hy
  have n1 : (u.want != u.want) = false := by simp
  have n2 : (u.id.toList != u.id.toList) = false := by simp
  have n3 : (u.done != u.done) = false := by simp
  go_enter Tryz.func73, Tryz.ntmps73
  go_wp2_with fail
  have hba : Below w.heap.size w ((w.alloc (.cells #[.string u.id, .int .i64 u.want, .slice a n c, .bool u.done] 69)).alloc (.cells #[.string u.id, .int .i64 u.want, .slice b n d, .bool u.done] 69)) := ((Below.refl _ _).alloc (Nat.le_refl _) _).alloc (by simp) _
  refine (eqByteS_same a b n c d u.zs _ (HX.out.below hba) (HY.out.below hba) hl).mono ?_
  rintro r x3 ⟨rfl, st3⟩
  have HB3 : Hid (Below w.heap.size w x3) := Still.below st3 hba
  clear hba
  obtain ⟨k, hk⟩ := st3
  subst hk
  go_wp2
  go_ret
  exact ⟨rfl, HB3.out⟩

set_option maxRecDepth 10000 in
set_option maxHeartbeats 1600000 in
theorem eqUpS_same (a : Option Addr) (n c lo : Nat) (l : List UE) (b : Option Addr) (m d lo' : Nat) (l' : List UE) (w : World) (h : UpRow w lo (.slice a n c) l) (h' : UpRow w lo' (.slice b m d) l') (hn : n = l.length) (hm : m = l'.length) (he : l.map UE.u = l'.map UE.u) (hl : n ≤ 1099511627776) (hz : ∀ e ∈ l, e.n ≤ 1099511627776) :
    Calls Tryz.prog 38 #[.slice a n c, .slice b m d] w fun e w' => e = .returned (.bool true) ∧ Below w.heap.size w w' := by
  obtain rfl : n = m := by
    have := congrArg List.length he
    rw [List.length_map, List.length_map] at this
    omega
  have HX : Hid (∀ W, Below w.heap.size w W → UpRow W lo (.slice a n c) l ∧ UpRow W lo' (.slice b n d) l') := fun W hb => ⟨h.stays hb, h'.stays hb⟩
  have HN : Hid (n = l.length) := hn
  have HM : Hid (n = l'.length) := hm
  have HE : Hid (l.map UE.u = l'.map UE.u) := he
  have HZ : Hid (∀ e ∈ l, e.n ≤ 1099511627776) := hz
  clear h h' hn hm he hz
  have hne : ((n : Int) != (n : Int)) = false := by simp
  go_enter Tryz.func38, Tryz.ntmps38
  go_wp2
  go_loopw [5] (fun i wr => ∃ k : Nat, k ≤ n ∧ i = .int .i64 k ∧ Hid (Below w.heap.size w wr)) (fun i _ => n - (intOf i).toNat)
  case atStart => exact ⟨0, Nat.zero_le _, rfl, Below.refl _ _⟩
  case round =>
    obtain ⟨k, hk, rfl, HW⟩ := hrel
    by_cases hlt : k < n
    · have hkl : k < l.length := by rw [← HN.out]; exact hlt
      have hkm : k < l'.length := by rw [← HM.out]; exact hlt
      obtain ⟨g, rfl, g0, g1, g2, g3, _⟩ := (HX.out _ HW.out).1.at HN.out hkl
      obtain ⟨q, rfl, q0, q1, q2, q3, _⟩ := (HX.out _ HW.out).2.at HM.out hkm
      have HU : Hid ((l[k]).u = (l'[k]).u) := by
        show _ = _
        have h1 := congrArg (fun z => z[k]?) HE.out
        simpa only [List.getElem?_map, List.getElem?_eq_getElem hkl, List.getElem?_eq_getElem hkm, Option.map_some, Option.some.injEq] using h1
      have HC : Hid (∀ P : Past wr, Calls Tryz.prog 73 #[.agg #[.string (l[k]).u.id, .int .i64 (l[k]).u.want, .slice (l[k]).a (l[k]).n (l[k]).c, .bool (l[k]).u.done], .agg #[.string (l'[k]).u.id, .int .i64 (l'[k]).u.want, .slice (l'[k]).a (l'[k]).n (l'[k]).c, .bool (l'[k]).u.done]] P.world fun r w' => r = .returned (.bool true) ∧ Below P.world.heap.size P.world w') := fun P => by
        have hb := HW.out.trans (P.below.mono HW.out.size)
        exact eqUp_same (l[k]) (l'[k]) P.world ((HX.out _ hb).1.2.1 _ (List.getElem_mem hkl)).seg ((HX.out _ hb).2.2.1 _ (List.getElem_mem hkm)).seg HU.out (HZ.out _ (List.getElem_mem hkl))
      have hki : (k : Int) < (n : Int) := by omega
      have hk0 : (0 : Int) ≤ (k : Int) := by omega
      have hgl := lt_of_cell g0
      have hql := lt_of_cell q0
      have x0 : ∀ P : Past wr, P.world.cell? ⟨g, k * 4, none⟩ = some (.string (l[k]).u.id) := fun P => P.cell hgl g0
      have x1 : ∀ P : Past wr, P.world.cell? ⟨g, k * 4 + 1, none⟩ = some (.int .i64 (l[k]).u.want) := fun P => P.cell hgl g1
      have x2 : ∀ P : Past wr, P.world.cell? ⟨g, k * 4 + 2, none⟩ = some (.slice (l[k]).a (l[k]).n (l[k]).c) := fun P => P.cell hgl g2
      have x3 : ∀ P : Past wr, P.world.cell? ⟨g, k * 4 + 3, none⟩ = some (.bool (l[k]).u.done) := fun P => P.cell hgl g3
      have y0 : ∀ P : Past wr, P.world.cell? ⟨q, k * 4, none⟩ = some (.string (l'[k]).u.id) := fun P => P.cell hql q0
      have y1 : ∀ P : Past wr, P.world.cell? ⟨q, k * 4 + 1, none⟩ = some (.int .i64 (l'[k]).u.want) := fun P => P.cell hql q1
      have y2 : ∀ P : Past wr, P.world.cell? ⟨q, k * 4 + 2, none⟩ = some (.slice (l'[k]).a (l'[k]).n (l'[k]).c) := fun P => P.cell hql q2
      have y3 : ∀ P : Past wr, P.world.cell? ⟨q, k * 4 + 3, none⟩ = some (.bool (l'[k]).u.done) := fun P => P.cell hql q3
      have hnp := past_some wr
      clear g0 g1 g2 g3 q0 q1 q2 q3 HU
      generalize l[k] = x at *
      generalize l'[k] = y at *
      go_wp2_with fail
      refine wp_region_past (by kernel_rfl) (by kernel_rfl) ?_
      repeat (quiet_step ((first | (go_at_call 73; with_reducible exact calls_past (HC.out _)) | fail)))
      refine wpQuiet_nil ?_
      rintro _ ⟨z, rfl⟩
      have HB3 : Hid (Below w.heap.size w z.world) := HW.out.trans (z.below.mono HW.out.size)
      go_wp2
      go_roundw
      case rel => exact ⟨k + 1, by omega, by go_num, HB3⟩
      case measure => simp [intOf]; omega
    · go_wp2
      go_ret
      exact ⟨rfl, HW.out⟩

end Go.Proofs.YtammmecddnafaaaGreatDoor

namespace Go.Proofs.YtammmecddnafaaaGreatDoor
open Go.RowKit
set_option linter.unusedVariables false

set_option maxRecDepth 10000 in
set_option maxHeartbeats 1600000 in
theorem eqStore_same (a b : Option Addr) (n ca cb : Nat) (X : List ByteArray) (a' b' : Option Addr) (n' ca' cb' : Nat) (Y : List ByteArray) (ep nx : Int) (ua : Option Addr) (un uc lo : Nat) (l : List UE) (va : Option Addr) (vn vc lo' : Nat) (l' : List UE) (w : World) (h1 : Strs w a n X) (h2 : Strs w b n X) (h3 : Strs w a' n' Y) (h4 : Strs w b' n' Y) (hu : UpRow w lo (.slice ua un uc) l) (hv : UpRow w lo' (.slice va vn vc) l') (hun : un = l.length) (hvn : vn = l'.length) (he : l.map UE.u = l'.map UE.u) (hn : n ≤ 1099511627776) (hn' : n' ≤ 1099511627776) (hul : un ≤ 1099511627776) (hz : ∀ e ∈ l, e.n ≤ 1099511627776) :
    Calls Tryz.prog 11 #[.agg #[.slice a n ca, .slice a' n' ca', .int .i64 ep, .int .i64 nx, .slice ua un uc], .agg #[.slice b n cb, .slice b' n' cb', .int .i64 ep, .int .i64 nx, .slice va vn vc]] w fun r w' => r = .returned (.bool true) ∧ Below w.heap.size w w' := by
  obtain ⟨w0, hw0⟩ : ∃ w0, (w.alloc (.cells #[.slice a n ca, .slice a' n' ca', .int .i64 ep, .int .i64 nx, .slice ua un uc] 32)).alloc (.cells #[.slice b n cb, .slice b' n' cb', .int .i64 ep, .int .i64 nx, .slice va vn vc] 32) = w0 := ⟨_, rfl⟩
  have HE : Hid ((w.alloc (.cells #[.slice a n ca, .slice a' n' ca', .int .i64 ep, .int .i64 nx, .slice ua un uc] 32)).alloc (.cells #[.slice b n cb, .slice b' n' cb', .int .i64 ep, .int .i64 nx, .slice va vn vc] 32) = w0) := hw0
  have HB : Hid (Below w.heap.size w w0) := by show Below _ _ _; rw [← hw0]; exact ((Below.refl _ _).alloc (Nat.le_refl _) _).alloc (by simp) _
  have HP : Hid (BoxN w0 w.heap.size 32 [.slice a n ca, .slice a' n' ca', .int .i64 ep, .int .i64 nx, .slice ua un uc]) := by show BoxN _ _ _ _; rw [← hw0]; exact (BoxN.new _ _ _).alloc _
  have HQ : Hid (BoxN w0 (w.heap.size + 1) 32 [.slice b n cb, .slice b' n' cb', .int .i64 ep, .int .i64 nx, .slice va vn vc]) := by
    show BoxN _ _ _ _
    rw [← hw0]
    have := BoxN.new (w.alloc (.cells #[.slice a n ca, .slice a' n' ca', .int .i64 ep, .int .i64 nx, .slice ua un uc] 32)) 32 [.slice b n cb, .slice b' n' cb', .int .i64 ep, .int .i64 nx, .slice va vn vc]
    rw [World.size_alloc] at this
    exact this
  have HX : Hid (∀ W, Below w0.heap.size w0 W → BoxN W w.heap.size 32 [.slice a n ca, .slice a' n' ca', .int .i64 ep, .int .i64 nx, .slice ua un uc] ∧ BoxN W (w.heap.size + 1) 32 [.slice b n cb, .slice b' n' cb', .int .i64 ep, .int .i64 nx, .slice va vn vc] ∧ Strs W a n X ∧ Strs W b n X ∧ Strs W a' n' Y ∧ Strs W b' n' Y ∧ UpRow W lo (.slice ua un uc) l ∧ UpRow W lo' (.slice va vn vc) l' ∧ Below w.heap.size w W) := fun W hb => ⟨HP.out.stays hb, HQ.out.stays hb, (h1.below HB.out).below hb, (h2.below HB.out).below hb, (h3.below HB.out).below hb, (h4.below HB.out).below hb, (hu.stays HB.out).stays hb, (hv.stays HB.out).stays hb, HB.out.trans (hb.mono HB.out.size)⟩
  have HU : Hid (un = l.length ∧ vn = l'.length ∧ l.map UE.u = l'.map UE.u ∧ ∀ e ∈ l, e.n ≤ 1099511627776) := ⟨hun, hvn, he, hz⟩
  clear hw0 HB HP HQ h1 h2 h3 h4 hu hv hun hvn he hz
  have HA0 : Hid (Below w0.heap.size w0 w0) := Below.refl _ _
  have x0 := (HX.out _ HA0.out).1.cell 0 rfl
  have x1 := (HX.out _ HA0.out).1.cell 1 rfl
  have y0 := (HX.out _ HA0.out).2.1.cell 0 rfl
  have y1 := (HX.out _ HA0.out).2.1.cell 1 rfl
  have ne1 : (ep != ep) = false := by simp
  have ne2 : (nx != nx) = false := by simp
  go_enter Tryz.func11, Tryz.ntmps11
  go_upto_region 1 with fail
  rw [HE.out]
  clear HE
  go_wp2_with fail
  refine (eqDisk_same a b n ca cb X a' b' n' ca' cb' Y w0 (HX.out _ HA0.out).2.2.1 (HX.out _ HA0.out).2.2.2.1 (HX.out _ HA0.out).2.2.2.2.1 (HX.out _ HA0.out).2.2.2.2.2.1 hn hn').mono ?_
  rintro _ W1 ⟨rfl, hb1⟩
  have HB1 : Hid (Below w0.heap.size w0 W1) := hb1
  clear hb1 x0 x1 y0 y1
  have c2 := (HX.out _ HB1.out).1.cell 2 rfl
  have c3 := (HX.out _ HB1.out).1.cell 3 rfl
  have c4 := (HX.out _ HB1.out).1.cell 4 rfl
  have d2 := (HX.out _ HB1.out).2.1.cell 2 rfl
  have d3 := (HX.out _ HB1.out).2.1.cell 3 rfl
  have d4 := (HX.out _ HB1.out).2.1.cell 4 rfl
  go_wp2_with fail
  refine (eqUpS_same ua un uc lo l va vn vc lo' l' W1 (HX.out _ HB1.out).2.2.2.2.2.2.1 (HX.out _ HB1.out).2.2.2.2.2.2.2.1 HU.out.1 HU.out.2.1 HU.out.2.2.1 hul HU.out.2.2.2).mono ?_
  rintro _ W2 ⟨rfl, hb2⟩
  have HB2 : Hid (Below w.heap.size w W2) := (HX.out _ (HB1.out.trans (hb2.mono HB1.out.size))).2.2.2.2.2.2.2.2
  clear hb2
  go_wp2_with fail
  go_ret
  exact ⟨rfl, HB2.out⟩

end Go.Proofs.YtammmecddnafaaaGreatDoor

namespace Go.Proofs.YtammmecddnafaaaGreatDoor
open Go.RowKit
set_option linter.unusedVariables false

theorem own_same {W W' : World} {base n size : Nat} {e : TypeId} {v : Value} {xs : List Value} (h : W.ownsRow base e size v n xs) (hq : ∀ q, v.ownBlock = some q → W'.heap[q]? = W.heap[q]?) : W'.ownsRow base e size v n xs := by
  refine ⟨h.1, ?_⟩
  rcases h.2 with h0 | ⟨g, cap, cur, rfl, hb, hg, r⟩
  · exact .inl h0
  · exact .inr ⟨g, cap, cur, rfl, hb, (hq g rfl).trans hg, r⟩

theorem Owns.same {W W' : World} {base n c : Nat} {a : Option Addr} {zs : List Int} (h : Owns W base a n c zs) (hq : ∀ q, a.map (·.block) = some q → W'.heap[q]? = W.heap[q]?) : Owns W' base a n c zs := ⟨own_same h.1 (fun q e => hq q (by rw [← ownBlock_sU a n c]; exact e)), h.2⟩

theorem UpRow.same {W W' : World} {base : Nat} {v : Value} {l : List UE} (h : UpRow W base v l) (h1 : ∀ q, v.ownBlock = some q → W'.heap[q]? = W.heap[q]?) (h2 : ∀ e ∈ l, ∀ q, e.a.map (·.block) = some q → W'.heap[q]? = W.heap[q]?) : UpRow W' base v l :=
  ⟨own_same h.1 h1, fun e he => (h.2.1 e he).same (h2 e he), h.2.2⟩

end Go.Proofs.YtammmecddnafaaaGreatDoor

namespace Go.Proofs.YtammmecddnafaaaGreatDoor
open Go.RowKit
set_option linter.unusedVariables false

/-- Of what was there, only blocks from lo on and below hi may have turned. -/
structure Within (w w' : World) (lo hi : Nat) : Prop where
  os : w'.os = w.os
  tape : w'.tape = w.tape
  output : w'.output = w.output
  size : w.heap.size ≤ w'.heap.size
  block : ∀ q, q < w.heap.size → (q < lo ∨ hi ≤ q) → w'.heap[q]? = w.heap[q]?

theorem Within.refl (w : World) (lo hi : Nat) : Within w w lo hi := ⟨rfl, rfl, rfl, Nat.le_refl _, fun _ _ _ => rfl⟩

theorem Within.trans {w w1 w2 : World} {lo hi : Nat} (h : Within w w1 lo hi) (k : Within w1 w2 lo hi) : Within w w2 lo hi :=
  ⟨k.os.trans h.os, k.tape.trans h.tape, k.output.trans h.output, Nat.le_trans h.size k.size, fun q hq ho => (k.block q (Nat.lt_of_lt_of_le hq h.size) ho).trans (h.block q hq ho)⟩

theorem within_below {w w' : World} {lo hi : Nat} (h : Below w.heap.size w w') : Within w w' lo hi := ⟨h.os, h.tape, h.output, h.size, fun q hq _ => h.block q hq⟩

theorem within_grown {w w' : World} {lo hi : Nat} {r : Option Nat} (h : w.grownBy w' r) (hr : ∀ q, r = some q → lo ≤ q ∧ q < hi) : Within w w' lo hi :=
  ⟨h.os, h.tape, h.output, h.size, fun q hq ho => h.block q hq (fun e => by have := hr q e.symm; omega)⟩

theorem Within.below {w w' : World} {lo hi : Nat} (h : Within w w' lo hi) (hl : lo ≤ w.heap.size) : Below lo w w' :=
  ⟨h.os, h.tape, h.output, h.size, fun q hq => h.block q (Nat.lt_of_lt_of_le hq hl) (.inl hq)⟩

theorem Within.more {w w' : World} {lo hi lo' hi' : Nat} (h : Within w w' lo hi) (h1 : lo' ≤ lo) (h2 : hi ≤ hi') : Within w w' lo' hi' :=
  ⟨h.os, h.tape, h.output, h.size, fun q hq ho => h.block q hq (by omega)⟩

end Go.Proofs.YtammmecddnafaaaGreatDoor

namespace Go.Proofs.YtammmecddnafaaaGreatDoor
open Go.RowKit
set_option linter.unusedVariables false

theorem OwnSt.same {W W' : World} {base n c : Nat} {a : Option Addr} {l : List ByteArray} (h : OwnSt W base (.slice a n c) n l) (hq : ∀ q, a.map (·.block) = some q → W'.heap[q]? = W.heap[q]?) : OwnSt W' base (.slice a n c) n l := ⟨own_same h.1 (fun q e => hq q (by rw [← ownBlock_sU a n c]; exact e)), h.2⟩

theorem StoAt.same {W W' : World} {base : Nat} {a : Option Addr} {n ca : Nat} {X : List ByteArray} {a' : Option Addr} {n' ca' : Nat} {Y : List ByteArray} {ua : Option Addr} {un uc : Nat} {l : List UE} (h : StoAt W base a n ca X a' n' ca' Y ua un uc l) {hi : Nat} (hin : StoIn a a' ua l hi) (hs : ∀ q, base ≤ q → q < hi → q < W.heap.size → W'.heap[q]? = W.heap[q]?) : StoAt W' base a n ca X a' n' ca' Y ua un uc l := by
  refine ⟨h.now.same (fun q e => ?_), h.sure.same (fun q e => ?_), h.apart, h.ups.same (fun q e => ?_) (fun x hx q e => ?_), h.len⟩
  · have := h.now.lt q (by rw [blk_own]; exact e); exact hs q this.1 (hin.1 q e) this.2
  · have := h.sure.lt q (by rw [blk_own]; exact e); exact hs q this.1 (hin.2.1 q e) this.2
  · have := h.ups.lts.1 q e; exact hs q this.1 (hin.2.2.1 q (by rw [← ownBlock_sU ua un uc]; exact e)) this.2
  · have := h.ups.lts.2 x hx q e; exact hs q this.1 (hin.2.2.2 x hx q e) this.2

/-- A variable that holds a store. -/
structure SAt (W : World) (lo b : Nat) (a : Option Addr) (n ca : Nat) (X : List ByteArray) (a' : Option Addr) (n' ca' : Nat) (Y : List ByteArray) (ep nx : Int) (ua : Option Addr) (un uc : Nat) (l : List UE) : Prop where
  box : BoxN W b 32 [.slice a n ca, .slice a' n' ca', .int .i64 ep, .int .i64 nx, .slice ua un uc]
  sto : StoAt W lo a n ca X a' n' ca' Y ua un uc l
  inn : StoIn a a' ua l b
  lob : lo ≤ b

section
variable {W W' : World} {lo b : Nat} {a : Option Addr} {n ca : Nat} {X : List ByteArray} {a' : Option Addr} {n' ca' : Nat} {Y : List ByteArray} {ep nx : Int} {ua : Option Addr} {un uc : Nat} {l : List UE}

theorem StoAt.inn (h : StoAt W lo a n ca X a' n' ca' Y ua un uc l) : StoIn a a' ua l W.heap.size :=
  ⟨fun q e => (h.now.lt q (by rw [blk_own]; exact e)).2, fun q e => (h.sure.lt q (by rw [blk_own]; exact e)).2, fun q e => (h.ups.lts.1 q (by rw [ownBlock_sU]; exact e)).2, fun x hx q e => (h.ups.lts.2 x hx q e).2⟩

theorem SAt.new (h : StoAt W lo a n ca X a' n' ca' Y ua un uc l) (hl : lo ≤ W.heap.size) : SAt (W.alloc (.cells #[.slice a n ca, .slice a' n' ca', .int .i64 ep, .int .i64 nx, .slice ua un uc] 32)) lo W.heap.size a n ca X a' n' ca' Y ep nx ua un uc l :=
  ⟨BoxN.new _ _ _, h.stays ((Below.refl _ _).alloc (Nat.le_refl _) _), h.inn, hl⟩

theorem SAt.stays (h : SAt W lo b a n ca X a' n' ca' Y ep nx ua un uc l) (hb : Below W.heap.size W W') : SAt W' lo b a n ca X a' n' ca' Y ep nx ua un uc l := ⟨h.box.stays hb, h.sto.stays hb, h.inn, h.lob⟩

theorem SAt.kept {lo2 hi2 : Nat} (h : SAt W lo b a n ca X a' n' ca' Y ep nx ua un uc l) (hw : Within W W' lo2 hi2) (ho : b < lo2 ∨ hi2 ≤ lo) : SAt W' lo b a n ca X a' n' ca' Y ep nx ua un uc l :=
  ⟨(hw.block b h.box.lt (by have := h.lob; omega)).trans h.box, h.sto.same h.inn (fun q h1 h2 h3 => hw.block q h3 (by omega)), h.inn, h.lob⟩

end

/-- An answered store, the lengths of its rows said. -/
theorem AnsS.get {base : Nat} {X Y : List ByteArray} {ep nx : Int} {us : List U} {v : Value} {w' : World} (h : AnsS base X Y ep nx us v w') : ∃ (a : Option Addr) (ca : Nat) (a' : Option Addr) (ca' : Nat) (ua : Option Addr) (uc : Nat) (l : List UE), v = .agg #[.slice a X.length ca, .slice a' Y.length ca', .int .i64 ep, .int .i64 nx, .slice ua us.length uc] ∧ StoAt w' base a X.length ca X a' Y.length ca' Y ua us.length uc l ∧ l.map UE.u = us := by
  obtain ⟨a, n, ca, a', n', ca', ua, un, uc, l, rfl, hs, hm⟩ := h
  have h1 : n = X.length := by have := hs.now.1.1; simpa [scells] using this.symm
  have h2 : n' = Y.length := by have := hs.sure.1.1; simpa [scells] using this.symm
  have h3 : un = us.length := by rw [hs.len, ← hm, List.length_map]
  subst h1 h2 h3
  exact ⟨a, ca, a', ca', ua, uc, l, rfl, hs, hm⟩

end Go.Proofs.YtammmecddnafaaaGreatDoor

namespace Go.Proofs.YtammmecddnafaaaGreatDoor
open Go.RowKit
set_option linter.unusedVariables false

/-- All blocks of texts are as they were. -/
def KeptT (w w' : World) : Prop := ∀ (q : Nat) (cs : Array Value) (z : Nat × Nat), w.heap[q]? = some (.cells cs 9 z) → w'.heap[q]? = some (.cells cs 9 z)

theorem KeptT.refl (w : World) : KeptT w w := fun _ _ _ h => h
theorem KeptT.trans {w w1 w2 : World} (h : KeptT w w1) (k : KeptT w1 w2) : KeptT w w2 := fun q cs z e => k q cs z (h q cs z e)
theorem keptT_below {w w' : World} (h : Below w.heap.size w w') : KeptT w w' := fun q cs z e => (h.block q (Array.getElem?_eq_some_iff.1 e).1).trans e

theorem keptT_grown {w w' : World} {base n size : Nat} {e : TypeId} {v : Value} {xs : List Value} (h : w.grownBy w' v.ownBlock) (ho : w.ownsRow base e size v n xs) (hne : e ≠ 9) : KeptT w w' := by
  intro q cs z hq
  refine (h.block q (Array.getElem?_eq_some_iff.1 hq).1 (fun e1 => ?_)).trans hq
  rcases ho.2 with ⟨rfl, _⟩ | ⟨g, cap, cur, rfl, _, hg, _⟩
  · cases e1
  · obtain rfl : q = g := by simpa [Value.ownBlock] using e1
    rw [hq] at hg
    injection hg with hg
    injection hg with _ h2 _
    exact hne h2.symm

theorem OwnSt.keptT {w w' : World} {base n : Nat} {v : Value} {l : List ByteArray} (h : OwnSt w base v n l) (k : KeptT w w') : OwnSt w' base v n l := by
  refine ⟨⟨h.1.1, ?_⟩, h.2⟩
  rcases h.1.2 with h0 | ⟨g, cap, cur, he, hg, hh, r⟩
  · exact .inl h0
  · exact .inr ⟨g, cap, cur, he, hg, k g cur _ hh, r⟩

end Go.Proofs.YtammmecddnafaaaGreatDoor

namespace Go.Proofs.YtammmecddnafaaaGreatDoor
open Go.RowKit
set_option linter.unusedVariables false

theorem own_stays {w w' : World} {base size n : Nat} {v : Value} {e : TypeId} {xs : List Value} (h : w.ownsRow base e size v n xs) (hb : Below w.heap.size w w') : w'.ownsRow base e size v n xs := by
  refine ⟨h.1, ?_⟩
  rcases h.2 with h0 | ⟨g, cap, cur, he, hg, hh, r⟩
  · exact .inl h0
  · exact .inr ⟨g, cap, cur, he, hg, (hb.block g (Array.getElem?_eq_some_iff.1 hh).1).trans hh, r⟩

/-- 'string([]byte{c})'. -/
theorem convm_one (c : Nat) (hc : c < 256) (W : World) (g : Nat) (h : W.cell? ⟨g, 0, none⟩ = some (.int .u8 (c : Int))) :
    (convert 39 9 (.slice (some ⟨g, 0, none⟩) 1 1)).run Tryz.prog W = .ok (.string ⟨#[UInt8.ofNat c]⟩) W := by
  refine run_convert_bytes_back W 39 9 5 ⟨g, 0, none⟩ 1 [UInt8.ofNat c] Tryz.underlying39 Tryz.underlying5 Tryz.underlying9 (fun j hj => ?_)
  obtain rfl : j = 0 := by simpa using hj
  have e : (UInt8.ofNat c).toNat = c := by simp; omega
  simpa [Addr.add, Nat.mod_eq_of_lt hc] using h

/-- The digits of k ahead of a text. -/
def mtGo (k : Nat) (out : ByteArray) : ByteArray := if k = 0 then out else mtGo (k / 10) (⟨#[UInt8.ofNat (48 + k % 10)]⟩ ++ out)
termination_by k
decreasing_by omega

/-- The mark of the number k. -/
def mt (k : Nat) : ByteArray := if k = 0 then ⟨#[109, 48]⟩ else ⟨#[109]⟩ ++ mtGo k ⟨#[]⟩

set_option maxRecDepth 10000 in
set_option maxHeartbeats 800000 in
theorem markText_any (k : Nat) (w : World) (hk : k ≤ 4398046511104) : Calls Tryz.prog 75 #[.int .i64 (k : Int)] w fun e w' => e = .returned (.string (mt k)) ∧ Below w.heap.size w w' := by
  by_cases h0 : k = 0
  · subst h0
    go_enter Tryz.func75, Tryz.ntmps75
    go_wp2
    go_ret
    exact ⟨rfl, Below.refl _ _⟩
  · have e : mt k = ⟨#[109]⟩ ++ mtGo k ⟨#[]⟩ := by rw [mt, if_neg h0]
    rw [e]
    have hki : ¬ (k : Int) ≤ 0 := by omega
    have hkd : decide ((k : Int) ≤ 0) = false := by simp; omega
    generalize hT : mtGo k ⟨#[]⟩ = T
    have HT : Hid (mtGo k ⟨#[]⟩ = T) := hT
    clear hT e
    go_enter Tryz.func75, Tryz.ntmps75
    go_wp2_with fail
    go_loopw [0, 3] (fun n o wr => ∃ (j : Nat) (u : ByteArray), j + u.size ≤ k ∧ n = .int .i64 (j : Int) ∧ o = .string u ∧ Hid (mtGo j u = T) ∧ Hid (Below w.heap.size w wr)) (fun n _ _ => (intOf n).toNat)
    case atStart => exact ⟨k, ⟨#[]⟩, Nat.le_refl _, rfl, rfl, HT, Below.refl _ _⟩
    case round =>
      clear HT
      obtain ⟨j, u, hj, rfl, rfl, HT, HB⟩ := hrel
      by_cases hj0 : j = 0
      · subst hj0
        have hTu : u = T := by
          have := HT.out
          rw [mtGo, if_pos rfl] at this
          exact this
        subst hTu
        go_wp2_with fail
        go_ret
        exact ⟨rfl, HB.out⟩
      · have hj1 : (0 : Int) < (j : Int) := by omega
        have HT2 : Hid (mtGo (j / 10) (⟨#[UInt8.ofNat (48 + j % 10)]⟩ ++ u) = T) := by
          show _ = _
          have := HT.out
          rw [mtGo, if_neg hj0] at this
          exact this
        have hjb : (j : Int) ≤ 4398046511104 := by omega
        have hcv : ∀ (W : World) (g : Nat), W.cell? ⟨g, 0, none⟩ = some (.int .u8 (48 + (j : Int) % 10)) → (convert 39 9 (.slice (some ⟨g, 0, none⟩) 1 1)).run Tryz.prog W = .ok (.string ⟨#[UInt8.ofNat (48 + j % 10)]⟩) W := fun W g hW => convm_one (48 + j % 10) (by omega) W g (by rw [hW]; congr 2)
        have hsz : (⟨#[UInt8.ofNat (48 + j % 10)]⟩ ++ u : ByteArray).size = 1 + u.size := by rw [ByteArray.size_append]; rfl
        have hXs : (⟨#[UInt8.ofNat (48 + j % 10)]⟩ : ByteArray).size = 1 := rfl
        generalize hX : (⟨#[UInt8.ofNat (48 + j % 10)]⟩ : ByteArray) = X at *
        clear hX
        have hus : X.size + u.size ≤ 4398046511105 := by omega
        have HSz : Hid ((X ++ u).size = 1 + u.size) := hsz
        clear hsz
        go_wp2_with fail
        go_roundw
        case rel =>
          refine ⟨j / 10, X ++ u, by rw [HSz.out]; omega, by congr 1, rfl, HT2, ?_⟩
          exact HB.out.alloc HB.out.size _
        case measure => simp [intOf]; omega

theorem mtGo_size (k : Nat) : ∀ u : ByteArray, (mtGo k u).size ≤ k + u.size := by
  induction k using Nat.strongRecOn with
  | _ k ih =>
    intro u
    rw [mtGo]
    split
    · omega
    · have := ih (k / 10) (by omega) (⟨#[UInt8.ofNat (48 + k % 10)]⟩ ++ u)
      rw [ByteArray.size_append] at this
      have e : (⟨#[UInt8.ofNat (48 + k % 10)]⟩ : ByteArray).size = 1 := rfl
      omega

theorem mt_size (k : Nat) : (mt k).size ≤ k + 2 := by
  unfold mt
  split
  · have e : (⟨#[109, 48]⟩ : ByteArray).size = 2 := rfl
    omega
  · have := mtGo_size k ⟨#[]⟩
    rw [ByteArray.size_append]
    have e : (⟨#[109]⟩ : ByteArray).size = 1 := rfl
    have e2 : (⟨#[]⟩ : ByteArray).size = 0 := rfl
    omega

theorem grown_refl (w : World) (r : Option Nat) : w.grownBy w r := ⟨rfl, rfl, rfl, Nat.le_refl _, fun _ _ _ => rfl⟩
theorem grown_trans {a b c : World} {r : Option Nat} (h : a.grownBy b r) (g : b.grownBy c r) : a.grownBy c r :=
  ⟨g.os.trans h.os, g.tape.trans h.tape, g.output.trans h.output, Nat.le_trans h.size g.size, fun k hk hr => (g.block k (Nat.lt_of_lt_of_le hk h.size) hr).trans (h.block k hk hr)⟩
theorem grown_below {a b : World} {r : Option Nat} (h : Below a.heap.size a b) : a.grownBy b r := ⟨h.os, h.tape, h.output, h.size, fun k hk _ => h.block k hk⟩

end Go.Proofs.YtammmecddnafaaaGreatDoor

namespace Go.Proofs.YtammmecddnafaaaGreatDoor
open Go.RowKit
set_option linter.unusedVariables false

/-- The marks: n bytes from k on. -/
def marks (k n : Nat) : List Int := (List.range n).map fun i => ((k + i : Nat) : Int) % 256

theorem marks_range (k n : Nat) : ∀ x ∈ marks k n, 0 ≤ x ∧ x ≤ 255 := by
  intro x hx
  simp only [marks, List.mem_map] at hx
  obtain ⟨i, _, rfl⟩ := hx
  omega

theorem marked_step (k : Nat) (zs : List Int) (j : Nat) (h : j < zs.length) :
    ((marks k j ++ zs.drop j).map (Value.int .u8)).set j (.int .u8 (((k + j : Nat) : Int) % 256)) = (marks k (j + 1) ++ zs.drop (j + 1)).map (Value.int .u8) := by
  have hl : (marks k j).length = j := by simp [marks]
  have hd : zs.drop j = zs[j] :: zs.drop (j + 1) := List.drop_eq_getElem_cons h
  have hm : marks k (j + 1) = marks k j ++ [((k + j : Nat) : Int) % 256] := by simp [marks, List.range_succ]
  rw [hd, hm, List.map_append, List.set_append_right _ _ (by simp [hl]), List.length_map, hl, Nat.sub_self, List.map_cons, List.set_cons_zero]
  rw [List.map_append, List.map_append, List.append_assoc]
  rfl

theorem marks_len (k n : Nat) : (marks k n).length = n := by simp [marks]

theorem marks_get (k n j : Nat) (h : j < n) : (marks k n).getD j 0 = ((k : Int) + (j : Int)) % 256 := by
  rw [List.getD_eq_getElem?_getD, List.getElem?_eq_getElem (by simpa [marks] using h)]
  simp [marks]

set_option maxHeartbeats 400000 in
theorem mark_any (base : Nat) (a : Option Addr) (n cap k : Nat) (zs : List Int) (w : World) (h : Owns w base a n cap zs) (hn : n ≤ 2199023255552) (hk : k ≤ 2199023255552) :
    Calls Tryz.prog 18 #[.slice a n cap, .int .i64 k] w fun e w' => e = .returned (.int .i64 ((k + n : Nat) : Int)) ∧ Owns w' base a n cap (marks k n) ∧ Only w w' a := by
  have hzl : zs.length = n := h.seg.1
  have HO : Hid (Owns w base a n cap zs) := h
  clear h
  go_enter Tryz.func18, Tryz.ntmps18
  go_wp2
  go_loopw [1, 5] (fun v i wr => ∃ j : Nat, j ≤ n ∧ i = .int .i64 j ∧ v = .int .i64 ((k + j : Nat) : Int) ∧ Hid (Owns wr base a n cap (marks k j ++ zs.drop j)) ∧ Hid (Only w wr a)) (fun _ i _ => n - (intOf i).toNat)
  case atStart => exact ⟨0, Nat.zero_le _, rfl, by go_num, by simpa [marks, Hid] using HO.out, ⟨rfl, rfl, rfl, Nat.le_refl _, fun _ _ _ => rfl⟩⟩
  case round =>
    clear HO
    obtain ⟨j, hj, rfl, rfl, HO, HB⟩ := hrel
    by_cases hlt : j < n
    · obtain ⟨g, rfl, hf, ⟨u, hu⟩⟩ : ∃ g, a = some ⟨g, 0, none⟩ ∧ wr.frozen? ⟨g, j, none⟩ = false ∧ ∃ u, wr.cell? ⟨g, j, none⟩ = some u := by
        rcases HO.out.1.2 with ⟨he, hn0⟩ | ⟨g, cap', cur, he, _⟩
        · omega
        · simp only [Value.slice.injEq] at he
          obtain ⟨rfl, _, rfl⟩ := he
          refine ⟨g, rfl, HO.out.1.frozenAt j, ?_⟩
          rw [HO.out.1.cellAt j (by omega)]
          exact ⟨_, List.getElem?_eq_getElem (by have := HO.out.1.1; omega)⟩
      go_wp2
      go_roundw
      case rel =>
        refine ⟨j + 1, by omega, by go_num, by go_num, ?_, ?_⟩
        · have h := (HO.out.1.stored j (.int .u8 (((k + j : Nat) : Int) % 256))).1
          rw [marked_step k zs j (by omega)] at h
          refine ⟨by simpa using h, ?_⟩
          intro x hx
          rcases List.mem_append.1 hx with hx | hx
          · exact marks_range _ _ x hx
          · exact HO.out.2 x (List.mem_append_right _ (by
              rw [List.drop_eq_getElem_cons (by omega)]
              exact List.mem_cons_of_mem _ hx))
        · have h := (HO.out.1.stored j (.int .u8 (((k : Int) + (j : Int)) % 256))).2
          have hB := HB.out
          exact ⟨h.os.trans hB.os, h.tape.trans hB.tape, h.output.trans hB.output, Nat.le_trans hB.size h.size, fun i hi hne => (h.block i (Nat.lt_of_lt_of_le hi hB.size) hne).trans (hB.block i hi hne)⟩
      case measure => simp [intOf]; omega
    · go_wp2
      go_ret
      have hjn : j = n := by omega
      subst hjn
      refine ⟨ret_int (by omega), ?_, HB.out⟩
      have h := HO.out
      rw [List.drop_of_length_le (by omega), List.append_nil] at h
      exact h

set_option maxHeartbeats 400000 in
theorem held_any (base : Nat) (a : Option Addr) (n cap k : Nat) (w : World) (h : Owns w base a n cap (marks k n)) (hn : n ≤ 2199023255552) (hk : k ≤ 2199023255552) :
    Calls Tryz.prog 77 #[.slice a n cap, .int .i64 k] w fun e w' => e = .returned (.int .i64 ((k + n : Nat) : Int)) ∧ w' = w := by
  have HS : Hid (Seg w a n (marks k n)) := h.seg
  clear h
  go_enter Tryz.func77, Tryz.ntmps77
  go_wp2
  go_loop [1, 5] (fun v i => ∃ j : Nat, j ≤ n ∧ i = .int .i64 j ∧ v = .int .i64 ((k + j : Nat) : Int)) (fun _ i => n - (intOf i).toNat)
  case atStart => exact ⟨0, Nat.zero_le _, rfl, by go_num⟩
  case round =>
    obtain ⟨j, hj, rfl, rfl⟩ := hrel
    by_cases hlt : j < n
    · obtain ⟨b, off, rfl, hc⟩ : ∃ b off, a = some ⟨b, off, none⟩ ∧ w.cell? ⟨b, off + j, none⟩ = some (.int .u8 (((k : Int) + (j : Int)) % 256)) := by
        rcases HS.out.2.2 with h | ⟨b, off, e1, _, hc⟩
        · omega
        · exact ⟨b, off, e1, by rw [hc j hlt, marks_get k n j hlt]⟩
      go_wp2
      go_round
      case rel => exact ⟨j + 1, by omega, by go_num, by go_num⟩
      case measure => simp [intOf]; omega
    · go_wp2
      go_ret
      have hjn : j = n := by omega
      subst hjn
      exact ⟨ret_int (by omega), rfl⟩

theorem mark_one (base : Nat) (a : Option Addr) (n cap : Nat) (zs : List Int) (w : World) (h : Owns w base a n cap zs) (hn : n ≤ 2199023255552) :
    Calls Tryz.prog 18 #[.slice a n cap, .int .i64 1] w fun e w' => e = .returned (.int .i64 ((1 + n : Nat) : Int)) ∧ Owns w' base a n cap (marks 1 n) ∧ Only w w' a := mark_any base a n cap 1 zs w h hn (by omega)

theorem held_one (base : Nat) (a : Option Addr) (n cap : Nat) (w : World) (h : Owns w base a n cap (marks 1 n)) (hn : n ≤ 2199023255552) :
    Calls Tryz.prog 77 #[.slice a n cap, .int .i64 1] w fun e w' => e = .returned (.int .i64 ((1 + n : Nat) : Int)) ∧ w' = w := held_any base a n cap 1 w h hn (by omega)

end Go.Proofs.YtammmecddnafaaaGreatDoor
