/- Answers that wait, held against themselves. An answer as the laws hand it on: its copy, held against itself. Answers that wait, as the laws hand them on: their number, their copy. A list of answers that wait, which comes in, and a server that does. What the program's RespOk answers. -/
import Derived.Test.YtogopmngbjkcjavGreatDoorM30
import Derived.Test.YtogopmngbjkcjavGreatDoorM30
import Derived.Test.YtogopmngbjkcjavGreatDoorM06
import Derived.Deep.RegionWith
import Derived.Test.YtogopmngbjkcjavGreatDoorM12
import Derived.WalkKit
import Derived.Deep.CutBlock
import Derived.Test.YtogopmngbjkcjavGreatDoorM04
import Derived.Deep.SlicePairs
import Derived.Lib.SmallJoins
namespace Go.Proofs.YtogopmngbjkcjavGreatDoor
open Go.RowKit
set_option linter.unusedVariables false

set_option maxRecDepth 10000 in
set_option maxHeartbeats 800000 in
theorem eqHeld_same (x y z : Int) (w : World) : Calls Tryz.prog 55 #[.agg #[.int .i64 x, .int .i64 y, .int .i64 z], .agg #[.int .i64 x, .int .i64 y, .int .i64 z]] w fun e w' => e = .returned (.bool true) ∧ Below w.heap.size w w' := by
  have hx : (x != x) = false := by simp
  have HB : Hid (Below w.heap.size w ((w.alloc (.cells #[.int .i64 x, .int .i64 y, .int .i64 z] 72)).alloc (.cells #[.int .i64 x, .int .i64 y, .int .i64 z] 72))) := ((Below.refl _ _).alloc (Nat.le_refl _) _).alloc (by simp) _
  go_enter Tryz.func55, Tryz.ntmps55
  go_wp2_with fail
  refine (eqResp_same y z _).mono ?_
  rintro e x3 ⟨rfl, hb3⟩
  have HB3 : Hid (Below w.heap.size w x3) := HB.out.trans (hb3.mono HB.out.size)
  clear hb3
  go_wp2_with fail
  go_ret
  exact ⟨rfl, HB3.out⟩

set_option maxRecDepth 10000 in
set_option maxHeartbeats 800000 in
theorem eqHeldS_same (a b : Option Addr) (len ca cb : Nat) (xs : List Hd) (w : World) (hx : Helds w a len xs) (hy : Helds w b len xs) (hla : len ≤ 1099511627776) :
    Calls Tryz.prog 23 #[.slice a len ca, .slice b len cb] w fun e w' => e = .returned (.bool true) ∧ Below w.heap.size w w' := by
  have HX : Hid (Helds w a len xs) := hx
  have HY : Hid (Helds w b len xs) := hy
  clear hx hy
  have hne : ((len : Int) != (len : Int)) = false := by simp
  go_enter Tryz.func23, Tryz.ntmps23
  go_wp2
  go_loopw [5] (fun i wr => ∃ k : Nat, k ≤ len ∧ i = .int .i64 k ∧ Hid (Below w.heap.size w wr)) (fun i _ => len - (intOf i).toNat)
  case atStart => exact ⟨0, Nat.zero_le _, rfl, Below.refl _ _⟩
  case round =>
    obtain ⟨k, hk, rfl, HW⟩ := hrel
    by_cases hlt : k < len
    · obtain ⟨ba, oa, x, y, z, rfl, hba, hfa, ha0, ha1, ha2, _⟩ := HX.out.at hlt
      obtain ⟨bb, ob, x', y', z', rfl, hbb, hfb, hb0, hb1, hb2, _⟩ := HY.out.at hlt
      obtain ⟨rfl, rfl, rfl⟩ : x = x' ∧ y = y' ∧ z = z' := by rw [hfa] at hfb; simpa using hfb
      have ga0 : wr.cell? ⟨ba, oa + k * 3, none⟩ = some (.int .i64 x) := (HW.out.cell (p := ⟨ba, _, none⟩) hba).trans ha0
      have ga1 : wr.cell? ⟨ba, oa + k * 3 + 1, none⟩ = some (.int .i64 y) := (HW.out.cell (p := ⟨ba, _, none⟩) hba).trans ha1
      have ga2 : wr.cell? ⟨ba, oa + k * 3 + 2, none⟩ = some (.int .i64 z) := (HW.out.cell (p := ⟨ba, _, none⟩) hba).trans ha2
      have gb0 : wr.cell? ⟨bb, ob + k * 3, none⟩ = some (.int .i64 x) := (HW.out.cell (p := ⟨bb, _, none⟩) hbb).trans hb0
      have gb1 : wr.cell? ⟨bb, ob + k * 3 + 1, none⟩ = some (.int .i64 y) := (HW.out.cell (p := ⟨bb, _, none⟩) hbb).trans hb1
      have gb2 : wr.cell? ⟨bb, ob + k * 3 + 2, none⟩ = some (.int .i64 z) := (HW.out.cell (p := ⟨bb, _, none⟩) hbb).trans hb2
      clear hfa hfb ha0 ha1 ha2 hb0 hb1 hb2
      have hki : (k : Int) < (len : Int) := by omega
      have hk0 : (0 : Int) ≤ (k : Int) := by omega
      go_wp2_with fail
      go_region_with (go_at_call 55; refine (eqHeld_same x y z _).mono ?_; rintro e x3 ⟨rfl, hb3⟩)
      all_goals
        have HB3 : Hid (Below w.heap.size w x3) := HW.out.drew.trans (hb3.mono HW.out.size)
        clear hb3
        go_wp2
        go_roundw
        case rel => exact ⟨k + 1, by omega, by go_num, HB3⟩
        case measure => simp [intOf]; omega
    · go_wp2
      go_ret
      exact ⟨rfl, HW.out⟩

end Go.Proofs.YtogopmngbjkcjavGreatDoor

namespace Go.Proofs.YtogopmngbjkcjavGreatDoor
open Go.RowKit
set_option linter.unusedVariables false

set_option maxRecDepth 10000 in
set_option maxHeartbeats 800000 in
theorem toResp_any (st off : Int) (w : World) :
    Calls Tryz.prog 118 #[.agg #[.int .i64 st, .int .i64 off]] w fun e w' => e = .returned (.agg #[.int .i64 st, .int .i64 off]) ∧ Below w.heap.size w w' := by
  go_enter Tryz.func118, Tryz.ntmps118
  go_wp2
  refine bodyPost_ret (v := .agg #[.int .i64 st, .int .i64 off]) (by simp [results, Tryz.f118, go_sem]) rfl ?_
  exact ⟨rfl, (((Below.refl _ _).alloc (Nat.le_refl _) _).alloc (by simp) _).alloc (by simp; omega) _⟩

end Go.Proofs.YtogopmngbjkcjavGreatDoor

namespace Go.Proofs.YtogopmngbjkcjavGreatDoor
open Go.RowKit
set_option linter.unusedVariables false

set_option maxRecDepth 10000 in
set_option maxHeartbeats 800000 in
theorem szHeldS_any (a : Option Addr) (len cap : Nat) (m : Int) (w : World) (h0 : 0 ≤ m) (hm : m ≤ 1048576) (hl : len ≤ maxLen) :
    Calls Tryz.prog 32 #[.slice a len cap, .int .i64 m] w fun e w' => (∃ L : Int, e = .returned (.int .i64 L) ∧ (L < 0 ∨ (len ≤ 1048576 ∧ 0 ≤ L ∧ L ≤ m))) ∧ Below w.heap.size w w' := by
  have hmm : maxLen < 9223372036854775808 := by decide
  have HB : Hid (Below w.heap.size w w) := Below.refl _ _
  by_cases h : m - len < 0
  · go_enter Tryz.func32, Tryz.ntmps32
    go_wp2
    go_ret
    exact ⟨⟨-1, rfl, .inl (by omega)⟩, HB.out⟩
  · go_enter Tryz.func32, Tryz.ntmps32
    go_wp2
    go_ret
    exact ⟨⟨m - len, rfl, .inr ⟨by omega, by omega, by omega⟩⟩, HB.out⟩

set_option maxRecDepth 10000 in
set_option maxHeartbeats 800000 in
theorem toHeld_any (x y z : Int) (w : World) : Calls Tryz.prog 70 #[.agg #[.int .i64 x, .int .i64 y, .int .i64 z]] w fun e w' => e = .returned (.agg #[.int .i64 x, .int .i64 y, .int .i64 z]) ∧ Below w.heap.size w w' := by
  obtain ⟨W0, hW0⟩ : ∃ W0, ((w.alloc (.cells #[.int .i64 x, .int .i64 y, .int .i64 z] 114)).alloc (.cells #[.int .i64 0, .int .i64 0, .int .i64 0] 72)).alloc (.cells #[.int .i64 0, .int .i64 0, .int .i64 0] 72) = W0 := ⟨_, rfl⟩
  have HE : Hid (((w.alloc (.cells #[.int .i64 x, .int .i64 y, .int .i64 z] 114)).alloc (.cells #[.int .i64 0, .int .i64 0, .int .i64 0] 72)).alloc (.cells #[.int .i64 0, .int .i64 0, .int .i64 0] 72) = W0) := hW0
  have HB : Hid (Below w.heap.size w W0) := by show Below _ _ _; rw [← hW0]; exact (((Below.refl _ _).alloc (Nat.le_refl _) _).alloc (by simp) _).alloc (by simp; omega) _
  have HI : Hid (BoxN W0 w.heap.size 114 [.int .i64 x, .int .i64 y, .int .i64 z]) := by show BoxN _ _ _ _; rw [← hW0]; exact ((BoxN.new _ _ _).alloc _).alloc _
  have HR : Hid (BoxN W0 (w.heap.size + 1) 72 [.int .i64 0, .int .i64 0, .int .i64 0]) := by
    show BoxN _ _ _ _
    rw [← hW0]
    have := (BoxN.new (w.alloc (.cells #[.int .i64 x, .int .i64 y, .int .i64 z] 114)) 72 [.int .i64 0, .int .i64 0, .int .i64 0]).alloc (.cells #[.int .i64 0, .int .i64 0, .int .i64 0] 72)
    rw [World.size_alloc] at this
    exact this
  have HO : Hid (BoxN W0 (w.heap.size + 1 + 1) 72 [.int .i64 0, .int .i64 0, .int .i64 0]) := by
    show BoxN _ _ _ _
    rw [← hW0]
    have := BoxN.new ((w.alloc (.cells #[.int .i64 x, .int .i64 y, .int .i64 z] 114)).alloc (.cells #[.int .i64 0, .int .i64 0, .int .i64 0] 72)) 72 [.int .i64 0, .int .i64 0, .int .i64 0]
    rw [World.size_alloc, World.size_alloc] at this
    exact this
  clear hW0
  have hlt : w.heap.size + 1 + 1 < W0.heap.size := HO.out.lt
  have c0 := HI.out.cell 0 rfl
  have c1 := HI.out.cell 1 rfl
  have c2 := HI.out.cell 2 rfl
  have o0 := HO.out.cell 0 rfl
  have f0 := HO.out.frozen 0
  obtain ⟨x2, hx2⟩ : ∃ x2, W0.setCell ⟨w.heap.size + 1 + 1, 0, none⟩ (.int .i64 x) = x2 := ⟨_, rfl⟩
  have HE2 : Hid (W0.setCell ⟨w.heap.size + 1 + 1, 0, none⟩ (.int .i64 x) = x2) := hx2
  have HB2 : Hid (Below w.heap.size w x2) := by show Below _ _ _; rw [← hx2]; exact HB.out.setCell (by dsimp only; omega) _
  have HO2 : Hid (BoxN x2 (w.heap.size + 1 + 1) 72 [.int .i64 x, .int .i64 0, .int .i64 0]) := by show BoxN _ _ _ _; rw [← hx2]; exact HO.out.set 0 _
  have HR2 : Hid (BoxN x2 (w.heap.size + 1) 72 [.int .i64 0, .int .i64 0, .int .i64 0]) := by show BoxN _ _ _ _; rw [← hx2]; exact HR.out.other (by omega) _
  clear hx2
  go_enter Tryz.func70, Tryz.ntmps70
  go_upto_region 2 with fail
  rw [HE.out]
  clear HE
  go_wp2_with fail
  rw [HE2.out]
  clear HE2 c0 c1 c2 o0 f0
  refine (toResp_any y z x2).mono ?_
  rintro _ x3 ⟨rfl, hb3⟩
  have HB3 : Hid (Below w.heap.size w x3) := HB2.out.trans (hb3.mono HB2.out.size)
  have hO3 := HO2.out.stays hb3
  have hR3 := HR2.out.stays hb3
  have b0 := hO3.cell 0 rfl
  have b1 := hO3.cell 1 rfl
  have b2 := hO3.cell 2 rfl
  have z1 := hO3.frozen 1
  have z2 := hO3.frozen 2
  have a0 := hR3.cell 0 rfl
  have a1 := hR3.cell 1 rfl
  have a2 := hR3.cell 2 rfl
  have e0 := hR3.frozen 0
  have e1 := hR3.frozen 1
  have e2 := hR3.frozen 2
  clear hb3 hO3 hR3 HO2 HR2
  go_wp2
  refine bodyPost_ret (v := .agg #[.int .i64 x, .int .i64 y, .int .i64 z]) (by simp [results, Tryz.f70, go_sem, a0, a1, a2]) rfl ?_
  exact ⟨rfl, ((((HB3.out.setCell (by dsimp only; omega) _).setCell (by dsimp only; omega) _).setCell (by dsimp only; omega) _).setCell (by dsimp only; omega) _).setCell (by dsimp only; omega) _⟩

set_option maxRecDepth 10000 in
set_option maxHeartbeats 800000 in
theorem toHeldS_own (a : Option Addr) (len ca : Nat) (xs : List Hd) (w : World) (hx : Helds w a len xs) (hl : len ≤ 1048576) :
    Calls Tryz.prog 36 #[.slice a len ca] w fun e w' => e = .returned (.slice (some ⟨w.heap.size, 0, none⟩) len len) ∧ OwnH w' w.heap.size (some ⟨w.heap.size, 0, none⟩) len len xs ∧ Below w.heap.size w w' := by
  obtain ⟨i0, hi, hz0, hz1, hz2⟩ := info_parts info_held
  have HS : Hid (Helds w a len xs) := hx
  clear hx
  go_enter Tryz.func36, Tryz.ntmps36
  go_wp2_with (at_make; refine wpList_make_full _ rfl _ _ 37 rfl w.heap.size 72 i0 (.agg #[.int .i64 0, .int .i64 0, .int .i64 0]) 3 Tryz.underlying37 hi hz0 hz1 _ _ _ _ len rfl rfl rfl rfl (by rw [hz2]; omega) (by unfold maxLen; omega) (Nat.le_refl _) ?_; intro w1 hown hgrow)
  have hrow : w1.ownsRow w.heap.size 72 3 (.slice (some ⟨w.heap.size, 0, none⟩) len len) len (heCells (heTo xs len 0)) := by
    have : (madeCells (Value.agg #[.int .i64 0, .int .i64 0, .int .i64 0]).cells (len * 3)).toList = heCells (heTo xs len 0) := by
      rw [show (Value.agg #[.int .i64 0, .int .i64 0, .int .i64 0]).cells = #[.int .i64 0, .int .i64 0, .int .i64 0] from by kernel_rfl, made_threeH]
      simp only [heTo, List.take_zero, List.nil_append, Nat.sub_zero]
      exact (heCells_nil len).symm
    rwa [this] at hown
  have hbel : Below w.heap.size w w1 := (Below.refl _ _).grown hgrow (Nat.le_refl _) (by simp)
  have HR := (show Hid _ from hrow)
  have HB := (show Hid _ from hbel)
  clear hown hgrow hrow hbel
  go_loopw [4] (fun i wr => ∃ k : Nat, k ≤ len ∧ i = .int .i64 k ∧ Hid (wr.ownsRow w.heap.size 72 3 (.slice (some ⟨w.heap.size, 0, none⟩) len len) len (heCells (heTo xs len k))) ∧ Hid (Below w.heap.size w wr)) (fun i _ => len - (intOf i).toNat)
  case atStart => exact ⟨0, Nat.zero_le _, rfl, HR, HB⟩
  case round =>
    clear HR HB
    obtain ⟨k, hk, rfl, HO, HB⟩ := hrel
    by_cases hlt : k < len
    · obtain ⟨ba, oa, x, y, z, rfl, hba, hfa, ha0, ha1, ha2, _⟩ := HS.out.at hlt
      have ga0 : wr.cell? ⟨ba, oa + k * 3, none⟩ = some (.int .i64 x) := (HB.out.cell (p := ⟨ba, _, none⟩) hba).trans ha0
      have ga1 : wr.cell? ⟨ba, oa + k * 3 + 1, none⟩ = some (.int .i64 y) := (HB.out.cell (p := ⟨ba, _, none⟩) hba).trans ha1
      have ga2 : wr.cell? ⟨ba, oa + k * 3 + 2, none⟩ = some (.int .i64 z) := (HB.out.cell (p := ⟨ba, _, none⟩) hba).trans ha2
      have HF : Hid (xs[k]? = some (x, y, z)) := hfa
      clear hfa ha0 ha1 ha2
      have hki : (k : Int) < (len : Int) := by omega
      have hk0 : (0 : Int) ≤ (k : Int) := by omega
      go_wp2_with fail
      refine (toHeld_any x y z _).mono ?_
      rintro e x3 ⟨rfl, hb3⟩
      have HO3 : Hid (x3.ownsRow w.heap.size 72 3 (.slice (some ⟨w.heap.size, 0, none⟩) len len) len (heCells (heTo xs len k))) := own_below HO.out hb3
      have HB3 : Hid (Below w.heap.size w x3) := HB.out.trans (hb3.mono HB.out.size)
      clear hb3
      have hln : (heCells (heTo xs len k)).length = len * 3 := by rw [heCells_len, heTo_len xs len k HS.out.1 hk]
      have f0 : x3.frozen? ⟨w.heap.size, k * 3, none⟩ = false := HO3.out.frozenAt _
      have f1 : x3.frozen? ⟨w.heap.size, k * 3 + 1, none⟩ = false := HO3.out.frozenAt _
      have f2 : x3.frozen? ⟨w.heap.size, k * 3 + 2, none⟩ = false := HO3.out.frozenAt _
      obtain ⟨u0, hu0⟩ : ∃ u, x3.cell? ⟨w.heap.size, k * 3, none⟩ = some u := by
        rw [HO3.out.cellAt _ (by omega)]
        exact ⟨_, List.getElem?_eq_getElem (by omega)⟩
      obtain ⟨u1, hu1⟩ : ∃ u, x3.cell? ⟨w.heap.size, k * 3 + 1, none⟩ = some u := by
        rw [HO3.out.cellAt _ (by omega)]
        exact ⟨_, List.getElem?_eq_getElem (by omega)⟩
      obtain ⟨u2, hu2⟩ : ∃ u, x3.cell? ⟨w.heap.size, k * 3 + 2, none⟩ = some u := by
        rw [HO3.out.cellAt _ (by omega)]
        exact ⟨_, List.getElem?_eq_getElem (by omega)⟩
      clear hln
      go_wp2
      go_roundw
      case rel =>
        refine ⟨k + 1, by omega, by go_num, ?_, ?_⟩
        · have h := (((HO3.out.stored (k * 3) (.int .i64 x)).1.stored (k * 3 + 1) (.int .i64 y)).1.stored (k * 3 + 2) (.int .i64 z)).1
          rw [heCells_set _ x y z k (by rw [heTo_len xs len k HS.out.1 hk]; exact hlt), heTo_step xs len k (x, y, z) HF.out hlt] at h
          exact h
        · exact ((HB3.out.setCell (Nat.le_refl _) _).setCell (Nat.le_refl _) _).setCell (Nat.le_refl _) _
      case measure => simp [intOf]; omega
    · go_wp2
      go_ret
      have hkl : k = len := by omega
      subst hkl
      have hl1 := HS.out.1
      have h := HO.out
      rw [show heTo xs k k = xs by simp [heTo, List.take_of_length_le (Nat.le_of_eq hl1)]] at h
      exact ⟨rfl, ⟨h, HS.out.2.1⟩, HB.out⟩

end Go.Proofs.YtogopmngbjkcjavGreatDoor

namespace Go.Proofs.YtogopmngbjkcjavGreatDoor
open Go.RowKit Go.ChangeShapes Go.WideShapes Go.Joins Go.Deep
set_option linter.unusedVariables false

set_option maxRecDepth 100000 in
theorem held_cells {H : Type} {enc : TypeId × Value → H} {w : World} {n : Nat} {cs : List Value} {x : DataW H × List MemPlace} (h : DataW.trod enc Tryz.prog w 0 (fun _ => true) true n 114 cs = some x) :
    ∃ s : Hd, cs = [.int .i64 s.1, .int .i64 s.2.1, .int .i64 s.2.2] ∧ hd64 s := by
  obtain ⟨xs, m, _, _, hl, hlen, hg⟩ := DataW.trod_struct Tryz.underlying114 h
  have hC : Tryz.prog.cellsOf 114 = 3 := by kernel_rfl
  rw [hC] at hl
  have k3 : Tryz.prog.cellsOf 3 = 1 := by kernel_rfl
  have kr : Tryz.prog.cellsOf 112 = 2 := by kernel_rfl
  match xs, hlen, cs, hl with
  | [y0, y1], _, [v0, v1, v2], _ =>
    have g0 := hg 0 _ rfl
    have g1 := hg 1 _ rfl
    simp [k3, kr] at g0 g1
    obtain ⟨i0, e0, _, w0⟩ := DataW.trod_int Tryz.underlying3 g0
    obtain ⟨xs', m', _, _, hl', hlen', hg'⟩ := DataW.trod_struct Tryz.underlying112 g1
    match xs', hlen' with
    | [y2, y3], _ =>
      have g2 := hg' 0 _ rfl
      have g3 := hg' 1 _ rfl
      simp [k3] at g2 g3
      obtain ⟨i1, e1, _, w1⟩ := DataW.trod_int Tryz.underlying3 g2
      obtain ⟨i2, e2, _, w2⟩ := DataW.trod_int Tryz.underlying3 g3
      simp only [List.cons.injEq, and_true] at e0 e1 e2
      subst e0 e1 e2
      exact ⟨(i0, i1, i2), rfl, bounds_i64 w0, bounds_i64 w1, bounds_i64 w2⟩

set_option maxRecDepth 100000 in
theorem Helds.opened {H : Type} {enc : TypeId × Value → H} {w : World} {fuel : Nat} {v : Value} {x : DataW H × List MemPlace} (h : DataW.trod enc Tryz.prog w 0 (fun _ => true) true fuel 28 [v] = some x) :
    ∃ a len cap xs, v = .slice a len cap ∧ len ≤ maxLen ∧ Helds w a len xs := by
  rcases Go.Deep.open_slice Tryz.underlying28 h with ⟨hcs, _⟩ | ⟨a, len, cap, m, n, D, Pl, hcs, _, hl, hm, hmm, _, hc⟩
  · simp at hcs
    exact ⟨none, 0, 0, [], hcs, Nat.zero_le _, rfl, by simp, .inl rfl⟩
  · simp at hcs hmm
    subst hmm
    have hC : Tryz.prog.cellsOf 114 = 3 := by kernel_rfl
    rw [hC] at hc
    have hs : ∀ i, i < m → ∃ s : Hd, (w.cell? (a.add (i * 3)) = some (.int .i64 s.1) ∧ w.cell? (a.add (i * 3 + 1)) = some (.int .i64 s.2.1) ∧ w.cell? (a.add (i * 3 + 2)) = some (.int .i64 s.2.2)) ∧ hd64 s := by
      intro i hi
      obtain ⟨cs', h1, h2⟩ := hc i hi
      obtain ⟨s, rfl, r⟩ := held_cells h2
      obtain ⟨_, hlen, hcell⟩ := World.cells?_some h1
      have e0 := hcell 0 (by omega)
      have e1 := hcell 1 (by omega)
      have e2 := hcell 2 (by omega)
      rw [Go.Deep.add_add] at e0 e1 e2
      exact ⟨s, ⟨by simpa using e0, by simpa using e1, by simpa using e2⟩, r⟩
    refine ⟨some a, len, m, (List.range len).map fun i => if hi : i < m then Classical.choose (hs i hi) else (0, 0, 0), hcs, by omega, by simp, ?_, ?_⟩
    · intro f hf
      obtain ⟨i, hi, rfl⟩ := List.mem_map.1 hf
      have him : i < m := by have := List.mem_range.1 hi; omega
      rw [dif_pos him]
      exact (Classical.choose_spec (hs i him)).2
    · by_cases h0 : len = 0
      · exact .inl h0
      · right
        obtain ⟨b, off, spot⟩ := a
        have hspot : spot = none := by simpa [Addr.add] using World.cell?_spot (Classical.choose_spec (hs 0 (by omega))).1.1
        subst hspot
        have key : ∀ i (hi : i < m), w.cell? ⟨b, off + i * 3, none⟩ = some (.int .i64 (Classical.choose (hs i hi)).1) ∧ w.cell? ⟨b, off + i * 3 + 1, none⟩ = some (.int .i64 (Classical.choose (hs i hi)).2.1) ∧ w.cell? ⟨b, off + i * 3 + 2, none⟩ = some (.int .i64 (Classical.choose (hs i hi)).2.2) := by
          intro i hi
          obtain ⟨⟨q0, q1, q2⟩, _⟩ := Classical.choose_spec (hs i hi)
          generalize Classical.choose (hs i hi) = e at *
          refine ⟨?_, ?_, ?_⟩
          · by_cases hi0 : i = 0
            · subst hi0
              simpa [Addr.add] using q0
            · simpa [Addr.add, show ¬ i * 3 = 0 by omega] using q0
          · simpa [Addr.add, Nat.add_assoc] using q1
          · simpa [Addr.add, Nat.add_assoc] using q2
        refine ⟨b, off, rfl, lt_of_cell (key 0 (by omega)).1, fun i hi => ?_⟩
        have hil : i < len := by simpa using hi
        have := key i (by omega)
        simpa [show i < m by omega] using this

theorem array6 {α : Type} {a : Array α} (h : a.size = 6) : ∃ x0 x1 x2 x3 x4 x5, a = #[x0, x1, x2, x3, x4, x5] := by
  obtain ⟨l⟩ := a
  match l, h with
  | [x0, x1, x2, x3, x4, x5], _ => exact ⟨x0, x1, x2, x3, x4, x5, rfl⟩

set_option maxRecDepth 100000 in
theorem store_cells {H : Type} {enc : TypeId × Value → H} {w : World} {n : Nat} {c0 c1 c2 c3 c4 : Value} {x : DataW H × List MemPlace} (h : DataW.trod enc Tryz.prog w 0 (fun _ => true) true n 27 [c0, c1, c2, c3, c4] = some x) :
    ∃ (a : Option Addr) (n ca : Nat) (xs : List ByteArray) (a' : Option Addr) (n' ca' : Nat) (ys : List ByteArray) (ep nx : Int) (ua : Option Addr) (un uc : Nat) (l : List UE), c0 = .slice a n ca ∧ c1 = .slice a' n' ca' ∧ c2 = .int .i64 ep ∧ c3 = .int .i64 nx ∧ c4 = .slice ua un uc ∧ n ≤ maxLen ∧ n' ≤ maxLen ∧ un ≤ maxLen ∧ Strs w a n xs ∧ Strs w a' n' ys ∧ UpsI w ua un l ∧ (Lit.int .i64 ep).wf = true ∧ (Lit.int .i64 nx).wf = true := by
  have kd : Tryz.prog.cellsOf 24 = 2 := by kernel_rfl
  have k3 : Tryz.prog.cellsOf 3 = 1 := by kernel_rfl
  have ku : Tryz.prog.cellsOf 25 = 1 := by kernel_rfl
  obtain ⟨xs, m, _, _, hl, hlen, hg⟩ := DataW.trod_struct Tryz.underlying27 h
  match xs, hlen with
  | [y0, y1, y2, y3], _ =>
    have g0 := hg 0 _ rfl
    have g1 := hg 1 _ rfl
    have g2 := hg 2 _ rfl
    have g3 := hg 3 _ rfl
    simp [kd, k3, ku] at g0 g1 g2 g3
    obtain ⟨a, n, ca, xs, a', n', ca', ys, rfl, rfl, hla, hl', hx, hy⟩ := disk_cells g0
    obtain ⟨ep, e1, _, w1⟩ := DataW.trod_int Tryz.underlying3 g1
    obtain ⟨nx, e2, _, w2⟩ := DataW.trod_int Tryz.underlying3 g2
    obtain ⟨ua, un, uc, l, e3, hlu, hu⟩ := UpsI.opened g3
    simp only [List.cons.injEq, and_true] at e1 e2
    subst e1 e2 e3
    exact ⟨a, n, ca, xs, a', n', ca', ys, ep, nx, ua, un, uc, l, rfl, rfl, rfl, rfl, rfl, hla, hl', hlu, hx, hy, hu, w1, w2⟩

set_option maxRecDepth 100000 in
theorem server_opened {H : Type} {enc : TypeId × Value → H} {w : World} {r : Reach} {b0 : Nat} {v : Value} {d : DataW H} {p : List MemPlace} (hv : Value.okWide Tryz.prog w r b0 30 v) (h : DataW.Trod enc Tryz.prog w 0 (fun _ => true) true 30 v d p) :
    ∃ (a : Option Addr) (n ca : Nat) (xs : List ByteArray) (a' : Option Addr) (n' ca' : Nat) (ys : List ByteArray) (ep nx : Int) (ua : Option Addr) (un uc : Nat) (l : List UE) (ha : Option Addr) (hn hc : Nat) (hs : List Hd), v = .agg #[.slice a n ca, .slice a' n' ca', .int .i64 ep, .int .i64 nx, .slice ua un uc, .slice ha hn hc] ∧ n ≤ maxLen ∧ n' ≤ maxLen ∧ un ≤ maxLen ∧ hn ≤ maxLen ∧ Strs w a n xs ∧ Strs w a' n' ys ∧ UpsI w ua un l ∧ Helds w ha hn hs ∧ (Lit.int .i64 ep).wf = true ∧ (Lit.int .i64 nx).wf = true := by
  have hC : Tryz.prog.cellsOf 30 = 6 := by kernel_rfl
  have ks : Tryz.prog.cellsOf 27 = 5 := by kernel_rfl
  have kh : Tryz.prog.cellsOf 28 = 1 := by kernel_rfl
  obtain ⟨cs, rfl, hsz⟩ := okWide_struct Tryz.underlying30 hv
  obtain ⟨c0, c1, c2, c3, c4, c5, rfl⟩ := array6 (hsz.trans hC)
  obtain ⟨fuel, hf⟩ := h
  obtain ⟨xs, m, _, _, hl, hlen, hg⟩ := DataW.trod_struct Tryz.underlying30 hf
  match xs, hlen with
  | [y0, y1], _ =>
    have g0 := hg 0 _ rfl
    have g1 := hg 1 _ rfl
    simp [Value.cells, ks, kh] at g0 g1
    obtain ⟨a, n, ca, xs, a', n', ca', ys, ep, nx, ua, un, uc, l, rfl, rfl, rfl, rfl, rfl, h1, h2, h3, h4, h5, h6, h7, h8⟩ := store_cells g0
    obtain ⟨ha, hn, hc, hs, rfl, hh1, hh2⟩ := Helds.opened g1
    exact ⟨a, n, ca, xs, a', n', ca', ys, ep, nx, ua, un, uc, l, ha, hn, hc, hs, rfl, h1, h2, h3, hh1, h4, h5, h6, hh2, h7, h8⟩

end Go.Proofs.YtogopmngbjkcjavGreatDoor

namespace Go.Proofs.YtogopmngbjkcjavGreatDoor
open Go.RowKit
set_option linter.unusedVariables false

theorem ret_bR {a b : Bool} (h : a = b) : Ending.returned (.bool a) = .returned (.bool b) := by rw [h]

set_option maxRecDepth 10000 in
set_option maxHeartbeats 800000 in
theorem implRespOk_any (st off : Int) (w : World) :
    Calls Tryz.prog 72 #[.agg #[.int .i64 st, .int .i64 off]] w fun e w' => e = .returned (.bool (respB st off)) ∧ Below w.heap.size w w' := by
  have HB0 : Hid (Below w.heap.size w (w.alloc (.cells #[.int .i64 st, .int .i64 off] 70))) := (Below.refl _ _).alloc (Nat.le_refl _) _
  have HR : Hid (respB st off = (decide (100 ≤ st ∧ st ≤ 599) && decide (-1 ≤ off ∧ off ≤ 1000000000))) := rfl
  by_cases h1 : 100 ≤ st
  · by_cases h2 : st ≤ 599
    · by_cases h3 : -1 ≤ off
      · have HF : Hid (respB st off = decide (off ≤ 1000000000)) := by
          show _ = _
          rw [HR.out, decide_eq_true ⟨h1, h2⟩, Bool.true_and, Bool.eq_iff_iff, decide_eq_true_eq, decide_eq_true_eq]
          omega
        go_enter Tryz.func72, Tryz.ntmps72
        go_wp2_with fail
        go_ret
        exact ⟨ret_bR HF.out.symm, HB0.out⟩
      · have HF : Hid (respB st off = false) := by show _ = _; rw [HR.out, decide_eq_false (p := -1 ≤ off ∧ _) (by omega), Bool.and_false]
        go_enter Tryz.func72, Tryz.ntmps72
        go_wp2_with fail
        go_ret
        exact ⟨ret_bR HF.out.symm, HB0.out⟩
    · have HF : Hid (respB st off = false) := by show _ = _; rw [HR.out, decide_eq_false (p := 100 ≤ st ∧ _) (by omega), Bool.false_and]
      go_enter Tryz.func72, Tryz.ntmps72
      go_wp2_with fail
      go_ret
      exact ⟨ret_bR HF.out.symm, HB0.out⟩
  · have HF : Hid (respB st off = false) := by show _ = _; rw [HR.out, decide_eq_false (p := 100 ≤ st ∧ _) (by omega), Bool.false_and]
    go_enter Tryz.func72, Tryz.ntmps72
    go_wp2_with fail
    go_ret
    exact ⟨ret_bR HF.out.symm, HB0.out⟩

end Go.Proofs.YtogopmngbjkcjavGreatDoor
