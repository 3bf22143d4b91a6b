/- How great rows of texts are. The copy of a row of texts. Rows of texts against themselves. Disks held against themselves. What the laws' own functions do with a disk: the size, the copy. The laws' copy of a disk. -/
import Derived.Test.YtenkpgnkkkgdmatDoorM04
namespace Go.Proofs.YtenkpgnkkkgdmatDoor
open Go.RowKit
set_option linter.unusedVariables false

set_option maxHeartbeats 400000 in
theorem szStrS_any (a : Option Addr) (len ca : Nat) (xs : List ByteArray) (n : Int) (w : World) (hx : Strs w a len xs) (hn : 0 ≤ n) (hn2 : n ≤ 1048576) (hl : len ≤ maxLen) :
    Calls Tryd.prog 25 #[.slice a len ca, .int .i64 n] w fun e w' => (∃ v : Int, e = .returned (.int .i64 v) ∧ v ≤ n ∧ (0 ≤ v → v + (len + strBytes xs) ≤ n)) ∧ Below w.heap.size w w' := by
  have HX : Hid (Strs w a len xs) := hx
  clear hx
  have hm : maxLen < 9223372036854775808 := by decide
  by_cases h0 : n - len < 0
  · go_enter Tryd.func25, Tryd.ntmps25
    go_wp2
    go_ret
    exact ⟨⟨_, rfl, by omega, by omega⟩, Below.refl _ _⟩
  · go_enter Tryd.func25, Tryd.ntmps25
    go_wp2
    go_loopw [1, 5] (fun l i wr => ∃ (k : Nat) (u : Int), k ≤ len ∧ i = .int .i64 k ∧ l = .int .i64 u ∧ 0 ≤ u ∧ u ≤ 1048576 ∧ Hid (u = n - len - strBytes (xs.take k)) ∧ Hid (Below w.heap.size w wr)) (fun _ i _ => len - (intOf i).toNat)
    case atStart => exact ⟨0, n - len, Nat.zero_le _, rfl, rfl, by omega, by omega, by show _ = _; simp [strBytes], Below.refl _ _⟩
    case round =>
      obtain ⟨k, u, hk, rfl, rfl, hu, hu2, HU, HW⟩ := hrel
      by_cases hlt : k < len
      · obtain ⟨ba, oa, x, rfl, hba, hfa, ha0⟩ := HX.out.at hlt
        have ga0 : wr.cell? ⟨ba, oa + k, none⟩ = some (.string x) := (HW.out.cell (p := ⟨ba, _, none⟩) hba).trans ha0
        have hsz := HX.out.2.1 x (List.mem_of_getElem? hfa)
        have HF : Hid (strBytes (xs.take (k + 1)) = strBytes (xs.take k) + x.size) := strBytes_step xs k x hfa
        clear hfa ha0
        have hki : (k : Int) < (len : Int) := by omega
        have hk0 : (0 : Int) ≤ (k : Int) := by omega
        by_cases hneg : u - x.size < 0
        · go_wp2
          go_ret
          exact ⟨⟨_, rfl, by omega, by omega⟩, HW.out⟩
        · go_wp2
          go_roundw
          case rel =>
            refine ⟨k + 1, u - x.size, by omega, by go_num, rfl, by omega, by omega, ?_, HW⟩
            show _ = _
            have h2 := HF.out
            have h3 := HU.out
            omega
          case measure => simp [intOf]; omega
      · go_wp2
        go_ret
        have hkl : k = len := by omega
        have h3 := HU.out
        have h4 := HX.out.1
        rw [List.take_of_length_le (by omega)] at h3
        exact ⟨⟨_, rfl, by omega, by omega⟩, HW.out⟩

end Go.Proofs.YtenkpgnkkkgdmatDoor

namespace Go.Proofs.YtenkpgnkkkgdmatDoor
open Go.RowKit
set_option linter.unusedVariables false

set_option maxHeartbeats 400000 in
theorem toStrS_own (a : Option Addr) (len ca : Nat) (xs : List ByteArray) (w : World) (hx : Strs w a len xs) (hl : len ≤ 1048576) :
    Calls Tryd.prog 27 #[.slice a len ca] w fun e w' => e = .returned (.slice (some ⟨w.heap.size, 0, none⟩) len len) ∧ OwnSt w' w.heap.size (.slice (some ⟨w.heap.size, 0, none⟩) len len) len xs ∧ Below w.heap.size w w' := by
  obtain ⟨i0, hi, hz0, hz1, hz2⟩ := info_parts info_string
  have HS : Hid (Strs w a len xs) := hx
  clear hx
  go_enter Tryd.func27, Tryd.ntmps27
  go_wp2_with (at_make; refine wpList_make_full _ rfl _ _ 22 rfl w.heap.size 9 i0 (.string ⟨#[]⟩) 1 Tryd.underlying22 hi hz0 hz1 _ _ _ _ len rfl rfl rfl rfl (by rw [hz2]; omega) (by unfold maxLen; omega) (Nat.le_refl _) ?_; intro w1 hown hgrow)
  have hrow : w1.ownsRow w.heap.size 9 1 (.slice (some ⟨w.heap.size, 0, none⟩) len len) len (scells (srowTo xs len 0)) := by
    have : (madeCells (Value.string ⟨#[]⟩).cells (len * 1)).toList = scells (srowTo xs len 0) := by
      rw [show (Value.string ⟨#[]⟩).cells = #[Value.string ⟨#[]⟩] from rfl, toList_madeCells_one]
      simp [srowTo, scells]
    rwa [this] at hown
  have hbel : Below w.heap.size w w1 := (Below.refl _ _).grown hgrow (Nat.le_refl _) (by simp)
  have HR := (show Hid _ from hrow)
  have HB := (show Hid _ from hbel)
  clear hown hgrow hrow hbel
  go_loopw [4] (fun i wr => ∃ k : Nat, k ≤ len ∧ i = .int .i64 k ∧ Hid (wr.ownsRow w.heap.size 9 1 (.slice (some ⟨w.heap.size, 0, none⟩) len len) len (scells (srowTo xs len k))) ∧ Hid (Below w.heap.size w wr)) (fun i _ => len - (intOf i).toNat)
  case atStart => exact ⟨0, Nat.zero_le _, rfl, HR, HB⟩
  case round =>
    clear HR HB
    obtain ⟨k, hk, rfl, HO, HB⟩ := hrel
    by_cases hlt : k < len
    · obtain ⟨ba, oa, x, rfl, hba, hfa, ha0⟩ := HS.out.at hlt
      have ga0 : wr.cell? ⟨ba, oa + k, none⟩ = some (.string x) := (HB.out.cell (p := ⟨ba, _, none⟩) hba).trans ha0
      have HF : Hid (xs[k]? = some x) := hfa
      clear hfa ha0
      have hki : (k : Int) < (len : Int) := by omega
      have hk0 : (0 : Int) ≤ (k : Int) := by omega
      have hln : (scells (srowTo xs len k)).length = len := by rw [scells_len, srowTo_len xs len k HS.out.1 hk]
      have f0 : wr.frozen? ⟨w.heap.size, k, none⟩ = false := HO.out.frozenAt _
      obtain ⟨u0, hu0⟩ : ∃ u, wr.cell? ⟨w.heap.size, k, none⟩ = some u := by
        rw [HO.out.cellAt _ (by omega)]
        exact ⟨_, List.getElem?_eq_getElem (by omega)⟩
      clear hln
      go_wp2
      go_roundw
      case rel =>
        refine ⟨k + 1, by omega, by go_num, ?_, ?_⟩
        · have h := (HO.out.stored k (.string x)).1
          rw [scells_set, srowTo_step xs len k x HF.out hlt] at h
          exact h
        · exact HB.out.setCell (Nat.le_refl _) _
      case measure => simp [intOf]; omega
    · go_wp2
      go_ret
      have hkl : k = len := by omega
      subst hkl
      have hl1 := HS.out.1
      have h := HO.out
      rw [show srowTo xs k k = xs by simp [srowTo, List.take_of_length_le (Nat.le_of_eq hl1)]] at h
      exact ⟨rfl, ⟨h, HS.out.2.1⟩, HB.out⟩

end Go.Proofs.YtenkpgnkkkgdmatDoor

namespace Go.Proofs.YtenkpgnkkkgdmatDoor
open Go.RowKit
set_option linter.unusedVariables false

set_option maxHeartbeats 400000 in
theorem eqStrS_same (a b : Option Addr) (len ca cb : Nat) (xs : List ByteArray) (w : World) (hx : Strs w a len xs) (hy : Strs w b len xs) (hla : len ≤ 1099511627776) :
    Calls Tryd.prog 29 #[.slice a len ca, .slice b len cb] w fun e w' => e = .returned (.bool true) ∧ Below w.heap.size w w' := by
  have HX : Hid (Strs w a len xs) := hx
  have HY : Hid (Strs w b len xs) := hy
  clear hx hy
  have hne : ((len : Int) != (len : Int)) = false := by simp
  go_enter Tryd.func29, Tryd.ntmps29
  go_wp2
  go_loopw [5] (fun i wr => ∃ k : Nat, k ≤ len ∧ i = .int .i64 k ∧ Hid (Below w.heap.size w wr)) (fun i _ => len - (intOf i).toNat)
  case atStart => exact ⟨0, Nat.zero_le _, rfl, Below.refl _ _⟩
  case round =>
    obtain ⟨k, hk, rfl, HW⟩ := hrel
    by_cases hlt : k < len
    · obtain ⟨ba, oa, x, rfl, hba, hfa, ha0⟩ := HX.out.at hlt
      obtain ⟨bb, ob, x', rfl, hbb, hfb, hb0⟩ := HY.out.at hlt
      obtain rfl : x = x' := by rw [hfa] at hfb; simpa using hfb
      have ga0 : wr.cell? ⟨ba, oa + k, none⟩ = some (.string x) := (HW.out.cell (p := ⟨ba, _, none⟩) hba).trans ha0
      have gb0 : wr.cell? ⟨bb, ob + k, none⟩ = some (.string x) := (HW.out.cell (p := ⟨bb, _, none⟩) hbb).trans hb0
      clear hfa hfb ha0 hb0
      have hxx : (x.toList != x.toList) = false := by simp
      have hki : (k : Int) < (len : Int) := by omega
      have hk0 : (0 : Int) ≤ (k : Int) := by omega
      go_wp2
      go_quiet (fail)
      go_wp2
      go_roundw
      case rel => exact ⟨k + 1, by omega, by go_num, ⟨HW.out.os, HW.out.tape, HW.out.output, HW.out.size, HW.out.block⟩⟩
      case measure => simp [intOf]; omega
    · go_wp2
      go_ret
      exact ⟨rfl, HW.out⟩

end Go.Proofs.YtenkpgnkkkgdmatDoor

namespace Go.Proofs.YtenkpgnkkkgdmatDoor
open Go.RowKit
set_option linter.unusedVariables false

set_option maxHeartbeats 800000 in
theorem eqDisk_same (a b : Option Addr) (n ca cb : Nat) (xs : List ByteArray) (a' b' : Option Addr) (n' ca' cb' : Nat) (ys : List ByteArray) (w : World) (h1 : Strs w a n xs) (h2 : Strs w b n xs) (h3 : Strs w a' n' ys) (h4 : Strs w b' n' ys) (hn : n ≤ 1099511627776) (hn' : n' ≤ 1099511627776) :
    Calls Tryd.prog 10 #[.agg #[.slice a n ca, .slice a' n' ca'], .agg #[.slice b n cb, .slice b' n' cb']] w fun r w' => r = .returned (.bool true) ∧ Below w.heap.size w w' := by
  have HX : Hid (∀ W, Below w.heap.size w W → Strs W a n xs ∧ Strs W b n xs ∧ Strs W a' n' ys ∧ Strs W b' n' ys) := fun W h => ⟨h1.below h, h2.below h, h3.below h, h4.below h⟩
  clear h1 h2 h3 h4
  go_enter Tryd.func10, Tryd.ntmps10
  go_wp2_with fail
  have hba : Below w.heap.size w ((w.alloc (Obj.cells #[Value.slice a n ca, Value.slice a' n' ca'] 27)).alloc (Obj.cells #[Value.slice b n cb, Value.slice b' n' cb'] 27)) := ((Below.refl _ _).alloc (Nat.le_refl _) _).alloc (by simp) _
  have HA : Hid (Box2R ((w.alloc (Obj.cells #[Value.slice a n ca, Value.slice a' n' ca'] 27)).alloc (Obj.cells #[Value.slice b n cb, Value.slice b' n' cb'] 27)) w.heap.size 27 (.slice a n ca) (.slice a' n' ca')) := (Box2R.new _ _ _ _).alloc _
  have HC : Hid (Box2R ((w.alloc (Obj.cells #[Value.slice a n ca, Value.slice a' n' ca'] 27)).alloc (Obj.cells #[Value.slice b n cb, Value.slice b' n' cb'] 27)) (w.heap.size + 1) 27 (.slice b n cb) (.slice b' n' cb')) := by
    have := Box2R.new (w.alloc (Obj.cells #[Value.slice a n ca, Value.slice a' n' ca'] 27)) 27 (.slice b n cb) (.slice b' n' cb')
    rwa [World.size_alloc] at this
  have HB : Hid (Below w.heap.size w _) := hba
  clear hba
  refine (eqStrS_same a b n ca cb xs _ (HX.out _ HB.out).1 (HX.out _ HB.out).2.1 hn).mono ?_
  rintro r x3 ⟨rfl, hb3⟩
  have HB3 : Hid (Below w.heap.size w x3) := HB.out.trans (hb3.mono HB.out.size)
  obtain ⟨c0, c1⟩ := (HA.out.stays hb3).cells
  obtain ⟨d0, d1⟩ := (HC.out.stays hb3).cells
  clear hb3 HA HC HB
  go_wp2_with fail
  refine (eqStrS_same a' b' n' ca' cb' ys _ (HX.out _ HB3.out).2.2.1 (HX.out _ HB3.out).2.2.2 hn').mono ?_
  rintro r x4 ⟨rfl, hb4⟩
  have HB4 : Hid (Below w.heap.size w x4) := HB3.out.trans (hb4.mono HB3.out.size)
  clear hb4 HB3 c0 c1 d0 d1
  go_wp2_with fail
  go_ret
  exact ⟨rfl, HB4.out⟩

end Go.Proofs.YtenkpgnkkkgdmatDoor

namespace Go.Proofs.YtenkpgnkkkgdmatDoor
open Go.RowKit
set_option linter.unusedVariables false

set_option maxHeartbeats 800000 in
theorem szDisk_any (a : Option Addr) (n ca : Nat) (xs : List ByteArray) (a' : Option Addr) (n' ca' : Nat) (ys : List ByteArray) (m : Int) (w : World) (h1 : Strs w a n xs) (h3 : Strs w a' n' ys) (hm : 0 ≤ m) (hm2 : m ≤ 1048576) (hn : n ≤ maxLen) (hn' : n' ≤ maxLen) :
    Calls Tryd.prog 6 #[.agg #[.slice a n ca, .slice a' n' ca'], .int .i64 m] w fun r w' => (∃ v : Int, r = .returned (.int .i64 v) ∧ v ≤ m ∧ (0 ≤ v → v + (n + strBytes xs) + (n' + strBytes ys) ≤ m)) ∧ Below w.heap.size w w' := by
  have HX : Hid (∀ W, Below w.heap.size w W → Strs W a n xs ∧ Strs W a' n' ys) := fun W h => ⟨h1.below h, h3.below h⟩
  clear h1 h3
  have HA : Hid (Box2R (w.alloc (Obj.cells #[Value.slice a n ca, Value.slice a' n' ca'] 24)) w.heap.size 24 (.slice a n ca) (.slice a' n' ca')) := Box2R.new _ _ _ _
  have HB : Hid (Below w.heap.size w (w.alloc (Obj.cells #[Value.slice a n ca, Value.slice a' n' ca'] 24))) := (Below.refl _ _).alloc (Nat.le_refl _) _
  go_enter Tryd.func6, Tryd.ntmps6
  go_wp2_with fail
  refine (szStrS_any a n ca xs m _ (HX.out _ HB.out).1 hm hm2 hn).mono ?_
  rintro r x3 ⟨⟨v, rfl, hvm, hv⟩, hb3⟩
  have HB3 : Hid (Below w.heap.size w x3) := HB.out.trans (hb3.mono HB.out.size)
  obtain ⟨c0, c1⟩ := (HA.out.stays hb3).cells
  clear hb3 HA HB
  by_cases hneg : v < 0
  · go_wp2_with fail
    go_ret
    exact ⟨⟨_, rfl, by omega, by omega⟩, HB3.out⟩
  have HV : Hid (v + (n + strBytes xs) ≤ m) := hv (by omega)
  clear hv
  go_wp2_with fail
  refine (szStrS_any a' n' ca' ys v _ (HX.out _ HB3.out).2 (by omega) (by omega) hn').mono ?_
  rintro r x4 ⟨⟨v4, rfl, hvm4, hv4⟩, hb4⟩
  have HB4 : Hid (Below w.heap.size w x4) := HB3.out.trans (hb4.mono HB3.out.size)
  have HV4 : Hid (0 ≤ v4 → v4 + (n' + strBytes ys) ≤ v) := hv4
  clear hb4 HB3 c0 c1 hv4
  by_cases hneg4 : v4 < 0
  · go_wp2_with fail
    go_ret
    exact ⟨⟨_, rfl, by omega, by omega⟩, HB4.out⟩
  go_wp2_with fail
  go_ret
  refine ⟨⟨_, rfl, by omega, fun h => ?_⟩, HB4.out⟩
  have h1 := HV.out
  have h2 := HV4.out h
  omega

end Go.Proofs.YtenkpgnkkkgdmatDoor

namespace Go.Proofs.YtenkpgnkkkgdmatDoor
open Go.RowKit
set_option linter.unusedVariables false

set_option maxHeartbeats 800000 in
theorem toDisk_any (a : Option Addr) (n ca : Nat) (xs : List ByteArray) (a' : Option Addr) (n' ca' : Nat) (ys : List ByteArray) (w : World) (h1 : Strs w a n xs) (h3 : Strs w a' n' ys) (hn : n ≤ 1048576) (hn' : n' ≤ 1048576) :
    Calls Tryd.prog 8 #[.agg #[.slice a n ca, .slice a' n' ca']] w fun r w' => ∃ g g', r = .returned (.agg #[.slice (some ⟨g, 0, none⟩) n n, .slice (some ⟨g', 0, none⟩) n' n']) ∧ g ≠ g' ∧ OwnSt w' w.heap.size (.slice (some ⟨g, 0, none⟩) n n) n xs ∧ OwnSt w' w.heap.size (.slice (some ⟨g', 0, none⟩) n' n') n' ys ∧ Below w.heap.size w w' := by
  have HX : Hid (∀ W, Below w.heap.size w W → Strs W a n xs ∧ Strs W a' n' ys) := fun W h => ⟨h1.below h, h3.below h⟩
  clear h1 h3
  go_enter Tryd.func8, Tryd.ntmps8
  go_wp2_with fail
  obtain ⟨w0, hw0⟩ : ∃ w0, ((w.alloc (Obj.cells #[Value.slice a n ca, Value.slice a' n' ca'] 24)).alloc (Obj.cells #[Value.slice none 0 0, Value.slice none 0 0] 27)).alloc (Obj.cells #[Value.slice none 0 0, Value.slice none 0 0] 27) = w0 := ⟨_, rfl⟩
  have HB : Hid (Below w.heap.size w w0) := by
    rw [← hw0]
    exact (((Below.refl _ _).alloc (Nat.le_refl _) _).alloc (by simp) _).alloc (by simp; omega) _
  have HZ : Hid (w0.heap.size = w.heap.size + 3) := by show _ = _; rw [← hw0]; simp
  have HA : Hid (Box2R w0 w.heap.size 24 (.slice a n ca) (.slice a' n' ca')) := by
    rw [← hw0]
    exact ((Box2R.new _ _ _ _).alloc _).alloc _
  have HR : Hid (Box2R w0 (w.heap.size + 1) 27 (.slice none 0 0) (.slice none 0 0)) := by
    have := (Box2R.new (w.alloc (Obj.cells #[Value.slice a n ca, Value.slice a' n' ca'] 24)) 27 (.slice none 0 0) (.slice none 0 0)).alloc (Obj.cells #[Value.slice none 0 0, Value.slice none 0 0] 27)
    rw [World.size_alloc, hw0] at this
    exact this
  have HO : Hid (Box2R w0 (w.heap.size + 1 + 1) 27 (.slice none 0 0) (.slice none 0 0)) := by
    have := Box2R.new ((w.alloc (Obj.cells #[Value.slice a n ca, Value.slice a' n' ca'] 24)).alloc (Obj.cells #[Value.slice none 0 0, Value.slice none 0 0] 27)) 27 (.slice none 0 0) (.slice none 0 0)
    rw [World.size_alloc, World.size_alloc, hw0] at this
    exact this
  rw [hw0]
  clear hw0
  refine (toStrS_own a n ca xs _ (HX.out _ HB.out).1 hn).mono ?_
  rintro r x1 ⟨rfl, ho1, hb1⟩
  generalize hg : w0.heap.size = g at *
  have HO1 : Hid (OwnSt x1 w.heap.size (.slice (some ⟨g, 0, none⟩) n n) n xs) := ho1.low (by have := HZ.out; omega)
  have HB1 : Hid (Below w.heap.size w x1) := HB.out.trans (hb1.mono (by have := HZ.out; omega))
  have HA1 : Hid (Box2R x1 w.heap.size 24 (.slice a n ca) (.slice a' n' ca')) := HA.out.stays (by rw [hg]; exact hb1)
  have HV1 : Hid (Box2R x1 (w.heap.size + 1 + 1) 27 (.slice none 0 0) (.slice none 0 0)) := HO.out.stays (by rw [hg]; exact hb1)
  have hgg : w.heap.size + 1 + 1 < g := by have := HZ.out; omega
  have HR1 : Hid (Box2R x1 (w.heap.size + 1) 27 (.slice none 0 0) (.slice none 0 0)) := HR.out.stays (by rw [hg]; exact hb1)
  clear ho1 hb1 HA HO HB HZ HR hg
  obtain ⟨c0, c1⟩ := HA1.out.cells
  obtain ⟨d0, d1⟩ := HV1.out.cells
  have f0 := HV1.out.frozen 0
  go_wp2_with fail
  obtain ⟨x2, hx2⟩ : ∃ x2, x1.setCell ⟨w.heap.size + 1 + 1, 0, none⟩ (.slice (some ⟨g, 0, none⟩) n n) = x2 := ⟨_, rfl⟩
  have HO2 : Hid (OwnSt x2 w.heap.size (.slice (some ⟨g, 0, none⟩) n n) n xs) := by
    rw [← hx2]
    exact HO1.out.setCell (by simp [blkOf]; omega) _
  have HB2 : Hid (Below w.heap.size w x2) := by
    rw [← hx2]
    exact HB1.out.setCell (by dsimp only; omega) _
  have HA2 : Hid (Box2R x2 w.heap.size 24 (.slice a n ca) (.slice a' n' ca')) := by
    rw [← hx2]
    exact HA1.out.other (by omega) _
  have HV2 : Hid (Box2R x2 (w.heap.size + 1 + 1) 27 (.slice (some ⟨g, 0, none⟩) n n) (.slice none 0 0)) := by
    rw [← hx2]
    exact HV1.out.set0 _
  have HR2 : Hid (Box2R x2 (w.heap.size + 1) 27 (.slice none 0 0) (.slice none 0 0)) := by
    rw [← hx2]
    exact HR1.out.other (by omega) _
  rw [hx2]
  clear hx2 HR1 HO1 HB1 HA1 HV1 c0 c1 d0 d1 f0
  refine (toStrS_own a' n' ca' ys _ (HX.out _ HB2.out).2 hn').mono ?_
  rintro r x3 ⟨rfl, ho3, hb3⟩
  have hgx : g < x2.heap.size := (HO2.out.lt g rfl).2
  generalize hg' : x2.heap.size = g' at *
  have HO3 : Hid (OwnSt x3 w.heap.size (.slice (some ⟨g, 0, none⟩) n n) n xs) := HO2.out.below (by rw [hg']; exact hb3)
  have HP3 : Hid (OwnSt x3 w.heap.size (.slice (some ⟨g', 0, none⟩) n' n') n' ys) := ho3.low (by omega)
  have HB3 : Hid (Below w.heap.size w x3) := HB2.out.trans (hb3.mono (by omega))
  have HV3 : Hid (Box2R x3 (w.heap.size + 1 + 1) 27 (.slice (some ⟨g, 0, none⟩) n n) (.slice none 0 0)) := HV2.out.stays (by rw [hg']; exact hb3)
  have HR3 : Hid (Box2R x3 (w.heap.size + 1) 27 (.slice none 0 0) (.slice none 0 0)) := HR2.out.stays (by rw [hg']; exact hb3)
  clear ho3 hb3 HA2 HV2 HO2 HB2 HR2 hg'
  obtain ⟨d0, d1⟩ := HV3.out.cells
  have f1 := HV3.out.frozen 1
  obtain ⟨e0, e1⟩ := (HV3.out.set1 (.slice (some ⟨g', 0, none⟩) n' n')).cells
  obtain ⟨r0, r1⟩ := HR3.out.cells
  have s0 := HR3.out.frozen 0
  have s1 := HR3.out.frozen 1
  go_wp2_with fail
  refine bodyPost_ret (v := .agg #[.slice (some ⟨g, 0, none⟩) n n, .slice (some ⟨g', 0, none⟩) n' n']) (by simp [results, Tryd.f8, go_sem, r0, r1]) rfl ?_
  refine ⟨g, g', rfl, by omega, ((HO3.out.setCell (by simp [blkOf]; omega) _).setCell (by simp [blkOf]; omega) _).setCell (by simp [blkOf]; omega) _, ((HP3.out.setCell (by simp [blkOf]; omega) _).setCell (by simp [blkOf]; omega) _).setCell (by simp [blkOf]; omega) _, ((HB3.out.setCell (by dsimp only; omega) _).setCell (by dsimp only; omega) _).setCell (by dsimp only; omega) _⟩

end Go.Proofs.YtenkpgnkkkgdmatDoor
