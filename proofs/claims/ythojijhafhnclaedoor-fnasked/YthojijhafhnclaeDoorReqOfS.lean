/- What the specification's ReqOf answers: the request that fields are, or a fault. -/
import Derived.Test.YthojijhafhnclaeDoorReqOfN
import Derived.Test.YthojijhafhnclaeDoorReqFormS
import Derived.Test.YthojijhafhnclaeDoorReqNumS
import Derived.Test.YthojijhafhnclaeDoorReqMethS
import Derived.Test.YthojijhafhnclaeDoorReqOkS
import Derived.Test.YthojijhafhnclaeDoorBox4Set
import Derived.Test.YthojijhafhnclaeDoorQuietB
import Derived.Deep.CutBlock
namespace Go.Proofs.YthojijhafhnclaeDoor
open Go.RowKit
set_option linter.unusedVariables false

/-- What the call holds: its answer's variable, the zero one, the request under work. -/
def RSt (w W : World) (a : Option Addr) (len : Nat) (xs : List Fld) (op : Int) (id : ByteArray) (n : Int) : Prop :=
  Box3 W w.heap.size 25 (.int .i64 0) (.string ⟨#[]⟩) (.int .i64 0) ∧ Box3 W (w.heap.size + 1) 25 (.int .i64 0) (.string ⟨#[]⟩) (.int .i64 0) ∧ Box3 W (w.heap.size + 1 + 1) 25 (.int .i64 op) (.string id) (.int .i64 n) ∧ Below w.heap.size w W ∧ Flds W a len xs

section
variable {w W W' : World} {a : Option Addr} {len : Nat} {xs : List Fld} {op : Int} {id : ByteArray} {n : Int}

theorem RSt.stays (h : RSt w W a len xs op id n) (hb : Below W.heap.size W W') : RSt w W' a len xs op id n :=
  ⟨h.1.stays hb, h.2.1.stays hb, h.2.2.1.stays hb, h.2.2.2.1.trans (hb.mono h.2.2.2.1.size), h.2.2.2.2.below hb⟩

theorem Flds.low {fs : List Fld} (h : Flds w a len fs) (hb : Below w.heap.size w W) : Flds W a len fs := h.below hb
end

theorem below_set3 {B : Nat} {w W : World} (h : Below B w W) {b : Nat} (hb : B ≤ b) (x y z : Value) : Below B w (((W.setCell ⟨b, 0, none⟩ x).setCell ⟨b, 1, none⟩ y).setCell ⟨b, 2, none⟩ z) :=
  ((h.setCell (p := ⟨b, 0, none⟩) hb _).setCell (p := ⟨b, 1, none⟩) hb _).setCell (p := ⟨b, 2, none⟩) hb _

theorem RSt.set0 {w W : World} {a : Option Addr} {len : Nat} {xs : List Fld} {op : Int} {id : ByteArray} {n : Int} (h0 : Flds w a len xs) (h : RSt w W a len xs op id n) (x : Int) : RSt w (W.setCell ⟨w.heap.size + 1 + 1, 0, none⟩ (.int .i64 x)) a len xs x id n := by
  have hb : Below w.heap.size w (W.setCell ⟨w.heap.size + 1 + 1, 0, none⟩ (.int .i64 x)) := h.2.2.2.1.setCell (p := ⟨w.heap.size + 1 + 1, 0, none⟩) (by show _ ≤ w.heap.size + 1 + 1; omega) _
  exact ⟨box3_other h.1 (by omega), box3_other h.2.1 (by omega), box3_set0 h.2.2.1 _, hb, h0.below hb⟩

theorem RSt.set1 {w W : World} {a : Option Addr} {len : Nat} {xs : List Fld} {op : Int} {id : ByteArray} {n : Int} (h0 : Flds w a len xs) (h : RSt w W a len xs op id n) (x : ByteArray) : RSt w (W.setCell ⟨w.heap.size + 1 + 1, 1, none⟩ (.string x)) a len xs op x n := by
  have hb : Below w.heap.size w (W.setCell ⟨w.heap.size + 1 + 1, 1, none⟩ (.string x)) := h.2.2.2.1.setCell (p := ⟨w.heap.size + 1 + 1, 1, none⟩) (by show _ ≤ w.heap.size + 1 + 1; omega) _
  exact ⟨box3_other h.1 (by omega), box3_other h.2.1 (by omega), box3_set1 h.2.2.1 _, hb, h0.below hb⟩

theorem RSt.set2 {w W : World} {a : Option Addr} {len : Nat} {xs : List Fld} {op : Int} {id : ByteArray} {n : Int} (h0 : Flds w a len xs) (h : RSt w W a len xs op id n) (x : Int) : RSt w (W.setCell ⟨w.heap.size + 1 + 1, 2, none⟩ (.int .i64 x)) a len xs op id x := by
  have hb : Below w.heap.size w (W.setCell ⟨w.heap.size + 1 + 1, 2, none⟩ (.int .i64 x)) := h.2.2.2.1.setCell (p := ⟨w.heap.size + 1 + 1, 2, none⟩) (by show _ ≤ w.heap.size + 1 + 1; omega) _
  exact ⟨box3_other h.1 (by omega), box3_other h.2.1 (by omega), box3_set2 h.2.2.1 _, hb, h0.below hb⟩

set_option maxRecDepth 10000 in
set_option maxHeartbeats 3200000 in
theorem specReqOf_any (a : Option Addr) (len cap : Nat) (xs : List Fld) (w : World) (hx : Flds w a len xs) (hl : len ≤ 1099511627776) (hcap : len ≤ cap) :
    Calls Tryd.prog 14 #[.slice a len cap] w fun e w' => e = .returned (.tuple #[.agg #[.int .i64 (reqOfR xs).1.1, .string (reqOfR xs).1.2.1, .int .i64 (reqOfR xs).1.2.2], .int .i64 (reqOfR xs).2]) ∧ Below w.heap.size w w' := by
  have HX : Hid (Flds w a len xs) := hx
  have HT : Hid ((⟨#[58, 109, 101, 116, 104, 111, 100]⟩ : ByteArray).toList = bM ∧ (⟨#[58, 112, 97, 116, 104]⟩ : ByteArray).toList = bP) := by
    refine ⟨?_, ?_⟩ <;> (rw [bytes_list]; rfl)
  obtain ⟨W2, hW2⟩ : ∃ W2, (w.alloc (.cells #[.int .i64 0, .string ⟨#[]⟩, .int .i64 0] 25)).alloc (.cells #[.int .i64 0, .string ⟨#[]⟩, .int .i64 0] 25) = W2 := ⟨_, rfl⟩
  have HE : Hid ((w.alloc (.cells #[.int .i64 0, .string ⟨#[]⟩, .int .i64 0] 25)).alloc (.cells #[.int .i64 0, .string ⟨#[]⟩, .int .i64 0] 25) = W2) := hW2
  have HZ2 : Hid (W2.heap.size = w.heap.size + 1 + 1) := by show _ = _; rw [← hW2]; simp
  have HB2 : Hid (Below w.heap.size w W2) := by show Below _ _ _; rw [← hW2]; exact ((Below.refl _ _).alloc (Nat.le_refl _) _).alloc (by simp) _
  have HQ1 : Hid (Box3 W2 w.heap.size 25 (.int .i64 0) (.string ⟨#[]⟩) (.int .i64 0)) := by show Box3 _ _ _ _ _ _; rw [← hW2]; exact (Box3.new _ _ _ _ _).alloc _
  have HQ2 : Hid (Box3 W2 (w.heap.size + 1) 25 (.int .i64 0) (.string ⟨#[]⟩) (.int .i64 0)) := by
    show Box3 _ _ _ _ _ _
    rw [← hW2]
    have := Box3.new (w.alloc (.cells #[.int .i64 0, .string ⟨#[]⟩, .int .i64 0] 25)) 25 (.int .i64 0) (.string ⟨#[]⟩) (.int .i64 0)
    rwa [World.size_alloc] at this
  clear hW2 hx
  go_enter Tryd.func14, Tryd.ntmps14
  go_upto_region 2 with fail
  rw [HE.out]
  clear HE
  go_wp2_with fail
  refine (specForm_any a len cap xs W2 (HX.out.below HB2.out) hl hcap).mono ?_
  rintro e w1 ⟨rfl, hw1⟩
  subst hw1
  cases hfm : formB xs
  · have HR : Hid (reqOfR xs = (zeroR, 1)) := by show _ = _; rw [reqOfR, if_pos hfm]
    have hx := HQ1.out
    obtain ⟨g0, g1, g2⟩ := hx.cells
    have f0 := hx.frozen 0
    have f1 := hx.frozen 1
    have f2 := hx.frozen 2
    obtain ⟨n0, n1, n2⟩ := HQ2.out.cells
    have HBl := (show Hid (Below w.heap.size w _) from below_set3 HB2.out (Nat.le_refl _) (.int .i64 0) (.string ⟨#[]⟩) (.int .i64 0))
    clear hx HQ1 HQ2 hfm
    go_wp2
    refine bodyPost_ret (v := .tuple #[.agg #[.int .i64 0, .string ⟨#[]⟩, .int .i64 0], .int .i64 1]) (by simp [results, Tryd.f14, go_sem, g0, g1, g2]) rfl ?_
    exact ⟨by rw [HR.out]; rfl, HBl.out⟩
  have HR1 : Hid (formB xs = true) := hfm
  clear hfm
  have HS3 : Hid (RSt w (w1.alloc (.cells #[.int .i64 0, .string ⟨#[]⟩, .int .i64 0] 25)) a len xs 0 ⟨#[]⟩ 0) := by
    have hb : Below w.heap.size w (w1.alloc (.cells #[.int .i64 0, .string ⟨#[]⟩, .int .i64 0] 25)) := HB2.out.alloc HB2.out.size _
    refine ⟨HQ1.out.alloc _, HQ2.out.alloc _, ?_, hb, HX.out.below hb⟩
    have := Box3.new w1 25 (.int .i64 0) (.string ⟨#[]⟩) (.int .i64 0)
    rwa [HZ2.out] at this
  have hz2 := HZ2.out
  go_upto_region 5 with fail
  obtain ⟨W3, hW3⟩ : ∃ W3, w1.alloc (.cells #[.int .i64 0, .string ⟨#[]⟩, .int .i64 0] 25) = W3 := ⟨_, rfl⟩
  rw [hW3] at HS3 ⊢
  clear hW3 hz2 HZ2 HB2 HQ1 HQ2
  obtain ⟨mt, hmt⟩ : ∃ mt, valF bM xs = mt := ⟨_, rfl⟩
  have HMt : Hid (valF bM xs = mt) := hmt
  clear hmt
  go_wp2_with fail
  go_loopw [6] (fun v W => ∃ k : Nat, k ≤ 6 ∧ v = .int .i64 ((k + 1 : Nat) : Int) ∧ Hid (RSt w W a len xs (opTo mt.toList k) ⟨#[]⟩ 0)) (fun v _ => 8 - (intOf v).toNat)
  case atStart => exact ⟨0, Nat.zero_le _, rfl, HS3⟩
  case round =>
    clear HS3
    obtain ⟨k, hk, rfl, HS⟩ := hrel
    by_cases hlt : k < 6
    · have hki : ((k + 1 : Nat) : Int) ≤ 6 := by omega
      have hki2 : (k : Int) + 1 ≤ 6 := by omega
      have HMe : Hid (∀ W : World, Calls Tryd.prog 32 #[.int .i64 ((k : Int) + 1)] W fun e w' => e = .returned (.string (methT ((k : Int) + 1))) ∧ Below W.heap.size W w') := fun W => specMeth_any _ W (by omega)
      have HOp : Hid (opTo mt.toList (k + 1) = if (methT ((k : Int) + 1)).toList == mt.toList then (k : Int) + 1 else opTo mt.toList k) := rfl
      go_wp2_with fail
      refine (HMe.out _).mono ?_
      rintro e w4 ⟨rfl, hb4⟩
      have HS4 : Hid (RSt w w4 a len xs (opTo mt.toList k) ⟨#[]⟩ 0) := HS.out.stays hb4
      clear hb4 HS HMe
      go_wp2_with fail
      refine (specValue_any a len cap xs _ _ HS4.out.2.2.2.2 hl).mono ?_
      rintro e w5 ⟨rfl, hw5⟩
      subst hw5
      rw [HT.out.1, HMt.out]
      generalize methT ((k : Int) + 1) = me at *
      cases hme : (me.toList == mt.toList)
      · have HO2 : Hid (opTo mt.toList (k + 1) = opTo mt.toList k) := by show _ = _; rw [HOp.out, hme]; rfl
        go_wp2_with fail
        go_roundw
        case rel => exact ⟨k + 1, by omega, by go_num, by rw [HO2.out]; exact HS4⟩
        case measure => simp [intOf]; omega
      · have HO2 : Hid (opTo mt.toList (k + 1) = (k : Int) + 1) := by show _ = _; rw [HOp.out, hme]; rfl
        have HS5 := (show Hid (RSt w (w5.setCell ⟨w.heap.size + 1 + 1, 0, none⟩ (.int .i64 ((k : Int) + 1))) a len xs ((k : Int) + 1) ⟨#[]⟩ 0) from HS4.out.set0 HX.out ((k : Int) + 1))
        obtain ⟨d0, d1, d2⟩ := HS4.out.2.2.1.cells
        have f0 := HS4.out.2.2.1.frozen 0
        clear HS4
        go_wp2_with fail
        go_roundw
        case rel => exact ⟨k + 1, by omega, by go_num, by rw [HO2.out]; exact HS5⟩
        case measure => simp [intOf]; omega
    · have hk6 : k = 6 := by omega
      subst hk6
      obtain ⟨op, hop⟩ : ∃ op, opTo mt.toList 6 = op := ⟨_, rfl⟩
      have hopr := opTo_le mt.toList 6
      have HRe := (show Hid (reqOfR xs = _) from (if_neg (by rw [HR1.out]; simp)))
      rw [HMt.out, hop] at HRe
      rw [hop] at HS hopr
      clear hop
      obtain ⟨p, hp⟩ : ∃ p, valF bP xs = p := ⟨_, rfl⟩
      have HPv : Hid (valF bP xs = p) := hp
      have HPs : Hid (p.size ≤ maxLen) := by show _ ≤ _; rw [← hp]; exact valF_size bP xs HX.out.2.1
      rw [hp] at HRe
      clear hp
      go_wp2_with fail
      refine (specValue_any a len cap xs _ _ HS.out.2.2.2.2 hl).mono ?_
      rintro e w6 ⟨rfl, hw6⟩
      subst hw6
      rw [HT.out.2, HPv.out]
      obtain ⟨d0, d1, d2⟩ := HS.out.2.2.1.cells
      by_cases hop0 : op = 0
      · subst hop0
        rw [if_pos rfl] at HRe
        clear d0 d1 d2
        obtain ⟨d0, d1, d2⟩ := HS.out.2.2.1.cells
        have hx := HS.out.1
        obtain ⟨g0, g1, g2⟩ := hx.cells
        have f0 := hx.frozen 0
        have f1 := hx.frozen 1
        have f2 := hx.frozen 2
        obtain ⟨n0, n1, n2⟩ := HS.out.2.1.cells
        have HBl := (show Hid (Below w.heap.size w _) from below_set3 HS.out.2.2.2.1 (Nat.le_refl _) (.int .i64 0) (.string ⟨#[]⟩) (.int .i64 0))
        clear hx HS
        go_wp2
        refine bodyPost_ret (v := .tuple #[.agg #[.int .i64 0, .string ⟨#[]⟩, .int .i64 0], .int .i64 2]) (by simp [results, Tryd.f14, go_sem, g0, g1, g2]) rfl ?_
        exact ⟨by rw [HRe.out]; rfl, HBl.out⟩
      rw [if_neg hop0] at HRe
      have hopb : (op == 0) = false := by simpa using hop0
      have hpm : p.size ≤ 9223372036854775807 := by have := HPs.out; unfold maxLen at this; omega
      by_cases hp5 : p.size < 5
      · have hp5i : (p.size : Int) < 5 := by omega
        rw [if_pos (by rw [pathB, decide_eq_false (by omega)]; rfl)] at HRe
        have hx := HS.out.1
        obtain ⟨g0, g1, g2⟩ := hx.cells
        have f0 := hx.frozen 0
        have f1 := hx.frozen 1
        have f2 := hx.frozen 2
        obtain ⟨n0, n1, n2⟩ := HS.out.2.1.cells
        have HBl := (show Hid (Below w.heap.size w _) from below_set3 HS.out.2.2.2.1 (Nat.le_refl _) (.int .i64 0) (.string ⟨#[]⟩) (.int .i64 0))
        clear hx HS
        go_wp2
        refine bodyPost_ret (v := .tuple #[.agg #[.int .i64 0, .string ⟨#[]⟩, .int .i64 0], .int .i64 3]) (by simp [results, Tryd.f14, go_sem, g0, g1, g2]) rfl ?_
        exact ⟨by rw [HRe.out]; rfl, HBl.out⟩
      have hp5i : ¬ (p.size : Int) < 5 := by omega
      have HPb : Hid (pathB p = (((p.extract 0 4).toList == bU) && idB (p.extract 4 p.size).data.toList)) := by show _ = _; rw [pathB, decide_eq_true (by omega)]; rfl
      cases hU : ((p.extract 0 4).toList == [47, 117, 112, 47])
      · rw [if_pos (by rw [HPb.out, show ((p.extract 0 4).toList == bU) = false from hU]; rfl)] at HRe
        have hx := HS.out.1
        obtain ⟨g0, g1, g2⟩ := hx.cells
        have f0 := hx.frozen 0
        have f1 := hx.frozen 1
        have f2 := hx.frozen 2
        obtain ⟨n0, n1, n2⟩ := HS.out.2.1.cells
        have HBl := (show Hid (Below w.heap.size w _) from below_set3 HS.out.2.2.2.1 (Nat.le_refl _) (.int .i64 0) (.string ⟨#[]⟩) (.int .i64 0))
        clear hx HS
        go_wp2
        refine bodyPost_ret (v := .tuple #[.agg #[.int .i64 0, .string ⟨#[]⟩, .int .i64 0], .int .i64 3]) (by simp [results, Tryd.f14, go_sem, g0, g1, g2]) rfl ?_
        exact ⟨by rw [HRe.out]; rfl, HBl.out⟩
      obtain ⟨id, hid⟩ : ∃ id, p.extract 4 p.size = id := ⟨_, rfl⟩
      have HId : Hid (p.extract 4 p.size = id) := hid
      have HIs : Hid (id.size ≤ 9223372036854775807) := by
        show _ ≤ _
        have := HPs.out
        unfold maxLen at this
        rw [← hid, ByteArray.size_extract]
        omega
      have HPb2 : Hid (pathB p = idB id.data.toList) := by show _ = _; rw [HPb.out, show ((p.extract 0 4).toList == bU) = true from hU, Bool.true_and, hid]
      rw [hid] at HRe
      have heid : ∀ z, p.size = z → p.extract 4 z = id := fun z hz => by rw [← hz]; exact hid
      clear hid HPb
      go_wp2_with fail
      refine (specId_any id _ HIs.out).mono ?_
      rintro e w7 ⟨rfl, hw7⟩
      subst hw7
      cases hib : idB id.data.toList
      · rw [if_pos (by rw [HPb2.out, hib])] at HRe
        have hx := HS.out.1
        obtain ⟨g0, g1, g2⟩ := hx.cells
        have f0 := hx.frozen 0
        have f1 := hx.frozen 1
        have f2 := hx.frozen 2
        obtain ⟨n0, n1, n2⟩ := HS.out.2.1.cells
        have HBl := (show Hid (Below w.heap.size w _) from below_set3 HS.out.2.2.2.1 (Nat.le_refl _) (.int .i64 0) (.string ⟨#[]⟩) (.int .i64 0))
        clear hx HS
        go_wp2
        refine bodyPost_ret (v := .tuple #[.agg #[.int .i64 0, .string ⟨#[]⟩, .int .i64 0], .int .i64 3]) (by simp [results, Tryd.f14, go_sem, g0, g1, g2]) rfl ?_
        exact ⟨by rw [HRe.out]; rfl, HBl.out⟩
      rw [if_neg (by rw [HPb2.out, hib]; simp)] at HRe
      have HS7 := (show Hid (RSt w (w7.setCell ⟨w.heap.size + 1 + 1, 1, none⟩ (.string id)) a len xs op id 0) from HS.out.set1 HX.out id)
      have f1 := HS.out.2.2.1.frozen 1
      clear hib HPb2
      go_upto_region 16 with fail
      obtain ⟨w8, hw8⟩ : ∃ w8, w7.setCell ⟨w.heap.size + 1 + 1, 1, none⟩ (.string id) = w8 := ⟨_, rfl⟩
      rw [hw8] at HS7 ⊢
      clear hw8 d0 d1 d2 f1 HS heid
      obtain ⟨d0, d1, d2⟩ := HS7.out.2.2.1.cells
      go_wp2_with fail
      refine (specName_any op _).mono ?_
      rintro e w9 ⟨rfl, hw9⟩
      subst hw9
      generalize nameT op = nt at *
      by_cases hnt : nt.toList = []
      · have hne : (nt.toList == []) = true := by rw [hnt]; rfl
        have hnf : (nt.toList != []) = false := by rw [hnt]; rfl
        rw [if_pos hnt] at HRe
        have hx := HS7.out.1
        obtain ⟨g0, g1, g2⟩ := hx.cells
        have f0 := hx.frozen 0
        have f1 := hx.frozen 1
        have f2 := hx.frozen 2
        obtain ⟨d0, d1, d2⟩ := HS7.out.2.2.1.cells
        have HBl := (show Hid (Below w.heap.size w _) from below_set3 HS7.out.2.2.2.1 (Nat.le_refl _) (.int .i64 op) (.string id) (.int .i64 0))
        clear hx HS7
        go_wp2
        refine bodyPost_ret (v := .tuple #[.agg #[.int .i64 op, .string id, .int .i64 0], .int .i64 0]) (by simp [results, Tryd.f14, go_sem, g0, g1, g2]) rfl ?_
        exact ⟨by rw [HRe.out], HBl.out⟩
      rw [if_neg hnt] at HRe
      have hne : (nt.toList == []) = false := by simpa using hnt
      have hnf : (nt.toList != []) = true := by simpa using hnt
      have HVl : Hid (∀ W : World, Below w9.heap.size w9 W → Calls Tryd.prog 33 #[.slice a len cap, .string nt] W fun e w' => e = .returned (.string (valF nt.toList xs)) ∧ w' = W) := fun W hb => specValue_any a len cap xs nt W (HS7.out.2.2.2.2.below hb) hl
      have HVs : Hid ((valF nt.toList xs).size ≤ 9223372036854775807) := by
        show _ ≤ _
        have := valF_size nt.toList xs HX.out.2.1
        unfold maxLen at this
        omega
      have HCt : Hid (∀ W : World, Below w9.heap.size w9 W → Calls Tryd.prog 38 #[.slice a len cap, .string nt] W fun e w' => e = .returned (.int .i64 (cntF nt.toList xs : Nat)) ∧ w' = W) := fun W hb => specCount_any a len cap xs nt W (HS7.out.2.2.2.2.below hb) hl
      generalize valF nt.toList xs = vt at *
      generalize cntF nt.toList xs = ct at *
      have HMo : Hid (∀ W : World, Calls Tryd.prog 37 #[.int .i64 op] W fun e w' => e = .returned (.int .i64 (mostR op)) ∧ w' = W) := fun W => specMost_any op W
      generalize mostR op = mo at *
      have HNm : Hid (∀ W : World, Calls Tryd.prog 36 #[.string vt, .int .i64 mo] W fun e w' => e = .returned (.tuple #[.int .i64 (numM vt.data.toList mo).1, .bool (numM vt.data.toList mo).2]) ∧ w' = W) := fun W => specNumM_any vt mo W HVs.out
      generalize numM vt.data.toList mo = nr at *
      obtain ⟨nn, nb⟩ := nr
      dsimp only at HNm HRe
      go_wp2_with fail
      go_quiet (first | (go_at_call 33; exact Calls.quiet_of_same (HVl.out _ (below_drewN (Below.refl _ _) _))) | (go_at_call 37; exact Calls.quiet_of_same (HMo.out _)) | (go_at_call 36; exact Calls.quiet_of_same (HNm.out _)))
      obtain ⟨wa, hwa⟩ : ∃ wa, w9.drewN nq = wa := ⟨_, rfl⟩
      have HSa : Hid (RSt w wa a len xs op id 0) := by rw [← hwa]; exact HS7.out.stays (below_drewN (Below.refl _ _) _)
      have HBa : Hid (Below w9.heap.size w9 wa) := by rw [← hwa]; exact below_drewN (Below.refl _ _) _
      rw [hwa]
      clear hwa HS7 d0 d1 d2 HVl HMo HNm
      cases nb
      · rw [if_pos (.inl rfl)] at HRe
        have hx := HSa.out.1
        obtain ⟨g0, g1, g2⟩ := hx.cells
        have f0 := hx.frozen 0
        have f1 := hx.frozen 1
        have f2 := hx.frozen 2
        obtain ⟨n0, n1, n2⟩ := HSa.out.2.1.cells
        have HBl := (show Hid (Below w.heap.size w _) from below_set3 HSa.out.2.2.2.1 (Nat.le_refl _) (.int .i64 0) (.string ⟨#[]⟩) (.int .i64 0))
        clear hx HSa
        go_wp2
        refine bodyPost_ret (v := .tuple #[.agg #[.int .i64 0, .string ⟨#[]⟩, .int .i64 0], .int .i64 4]) (by simp [results, Tryd.f14, go_sem, g0, g1, g2]) rfl ?_
        exact ⟨by rw [HRe.out]; rfl, HBl.out⟩
      go_wp2_with fail
      refine (HCt.out _ HBa.out).mono ?_
      rintro e wb ⟨rfl, hwb⟩
      subst hwb
      by_cases hct : ct = 1
      case neg =>
        have h1 : ((ct : Int) != 1) = true := by simp; omega
        have h2 : ((ct : Int) == 1) = false := by simp; omega
        rw [if_pos (.inr hct)] at HRe
        have hx := HSa.out.1
        obtain ⟨g0, g1, g2⟩ := hx.cells
        have f0 := hx.frozen 0
        have f1 := hx.frozen 1
        have f2 := hx.frozen 2
        obtain ⟨n0, n1, n2⟩ := HSa.out.2.1.cells
        have HBl := (show Hid (Below w.heap.size w _) from below_set3 HSa.out.2.2.2.1 (Nat.le_refl _) (.int .i64 0) (.string ⟨#[]⟩) (.int .i64 0))
        clear hx HSa
        go_wp2
        refine bodyPost_ret (v := .tuple #[.agg #[.int .i64 0, .string ⟨#[]⟩, .int .i64 0], .int .i64 4]) (by simp [results, Tryd.f14, go_sem, g0, g1, g2]) rfl ?_
        exact ⟨by rw [HRe.out]; rfl, HBl.out⟩
      subst hct
      rw [if_neg (by simp)] at HRe
      have HSb := (show Hid (RSt w (wb.setCell ⟨w.heap.size + 1 + 1, 2, none⟩ (.int .i64 nn)) a len xs op id nn) from HSa.out.set2 HX.out nn)
      obtain ⟨d0, d1, d2⟩ := HSa.out.2.2.1.cells
      have f2 := HSa.out.2.2.1.frozen 2
      go_upto_region 22 with fail
      obtain ⟨wc, hwc⟩ : ∃ wc, wb.setCell ⟨w.heap.size + 1 + 1, 2, none⟩ (.int .i64 nn) = wc := ⟨_, rfl⟩
      rw [hwc] at HSb ⊢
      clear hwc HSa d0 d1 d2 f2
      have hx := HSb.out.1
      obtain ⟨g0, g1, g2⟩ := hx.cells
      have f0 := hx.frozen 0
      have f1 := hx.frozen 1
      have f2 := hx.frozen 2
      obtain ⟨d0, d1, d2⟩ := HSb.out.2.2.1.cells
      have HBl := (show Hid (Below w.heap.size w _) from below_set3 HSb.out.2.2.2.1 (Nat.le_refl _) (.int .i64 op) (.string id) (.int .i64 nn))
      clear hx HSb
      go_wp2
      refine bodyPost_ret (v := .tuple #[.agg #[.int .i64 op, .string id, .int .i64 nn], .int .i64 0]) (by simp [results, Tryd.f14, go_sem, g0, g1, g2]) rfl ?_
      exact ⟨by rw [HRe.out], HBl.out⟩

end Go.Proofs.YthojijhafhnclaeDoor
