/- What the program's RespOf answers: the answer that fields are, or nothing. For values of at most 2^48 bytes, under the library's table and two errors. -/
import Derived.Test.YthojijhafhnclaeDoorRespNs
import Derived.Test.YthojijhafhnclaeDoorRespFldI
import Derived.Test.YthojijhafhnclaeDoorNumberI
import Derived.Test.YthojijhafhnclaeDoorFldSame
import Derived.Deep.CutBlock
namespace Go.Proofs.YthojijhafhnclaeDoor
open Go.RowKit
set_option linter.unusedVariables false

theorem below_set2 {B : Nat} {w W : World} (h : Below B w W) {b : Nat} (hb : B ≤ b) (x y : Value) : Below B w ((W.setCell ⟨b, 0, none⟩ x).setCell ⟨b, 1, none⟩ y) :=
  (h.setCell (p := ⟨b, 0, none⟩) hb _).setCell (p := ⟨b, 1, none⟩) hb _

theorem respOfR_if (xs : List Fld) (h : xs ≠ []) : respOfR xs = if sameL (respF (stOf xs) (offOf xs)) xs = true then ((stOf xs, offOf xs), true) else ((0, 0), false) := by
  by_cases h2 : respF (stOf xs) (offOf xs) = xs
  · rw [respOfR_yes h h2, sameL_yes h2, if_pos rfl]
  · rw [respOfR_no (fun hh => h2 hh.2), sameL_no h2, if_neg (by simp)]

set_option maxRecDepth 10000 in
set_option maxHeartbeats 3200000 in
theorem implRespOf_any (a : Option Addr) (len cap : Nat) (xs : List Fld) (w : World) (hx : Flds w a len xs) (hl : len ≤ 1099511627776) (hv : ∀ f ∈ xs, f.2.size ≤ 281474976710656) (hs : StdT w) :
    Calls Tryd.prog 9 #[.slice a len cap] w fun e w' => e = .returned (.tuple #[.agg #[.int .i64 (respOfR xs).1.1, .int .i64 (respOfR xs).1.2], .bool (respOfR xs).2]) ∧ Below w.heap.size w w' := by
  have HX : Hid (Flds w a len xs) := hx
  have HS : Hid (StdT w) := hs
  have HVb : Hid (∀ f ∈ xs, f.2.size ≤ 281474976710656) := hv
  have HL : Hid (xs.length = len) := hx.1
  clear hx hs hv
  have HB1 : Hid (Below w.heap.size w (w.alloc (.cells #[.int .i64 0, .int .i64 0] 27))) := (Below.refl _ _).alloc (Nat.le_refl _) _
  have HQ1 : Hid (Box2R (w.alloc (.cells #[.int .i64 0, .int .i64 0] 27)) w.heap.size 27 (.int .i64 0) (.int .i64 0)) := Box2R.new _ _ _ _
  by_cases h0 : len = 0
  · subst h0
    have HR : Hid (respOfR xs = ((0, 0), false)) := by
      show _ = _
      rw [List.eq_nil_of_length_eq_zero HL.out]
      exact respOfR_none
    obtain ⟨g0, g1⟩ := HQ1.out.cells
    have f0 := HQ1.out.frozen 0
    have f1 := HQ1.out.frozen 1
    have HBl := (show Hid (Below w.heap.size w _) from below_set2 HB1.out (Nat.le_refl _) (.int .i64 0) (.int .i64 0))
    go_enter Tryd.func9, Tryd.ntmps9
    go_wp2
    refine bodyPost_ret (v := .tuple #[.agg #[.int .i64 0, .int .i64 0], .bool false]) (by simp [results, Tryd.f9, go_sem]) rfl ?_
    exact ⟨by rw [HR.out], by first | exact HBl.out | exact HB1.out⟩
  have hpos : 0 < len := by omega
  have h0i : ((len : Int) == 0) = false := by simp; omega
  obtain ⟨b, off, x, y, rfl, hb, hkx, hp, hq⟩ := HX.out.at hpos
  have HS0 : Hid (stOf xs = (upR y.data.toList 1000000000).1) := by
    show _ = _
    cases xs with
    | nil => cases hkx
    | cons f r =>
      obtain rfl : f = (x, y) := by simpa using hkx
      rfl
  have HY : Hid (y.size ≤ 281474976710656) := HVb.out (x, y) (List.mem_of_getElem? hkx)
  have HNe : Hid (xs ≠ []) := fun e => by rw [e] at hkx; cases hkx
  have HR : Hid (respOfR xs = if sameL (respF (stOf xs) (offOf xs)) xs = true then ((stOf xs, offOf xs), true) else ((0, 0), false)) := respOfR_if xs HNe.out
  have HO1 : Hid (len = 1 → offOf xs = -1) := fun h => by
    have := HL.out
    match xs, HNe.out with
    | [f], _ => rfl
    | f :: g :: r, _ => simp at this; omega
  clear hkx HNe
  simp only [Nat.zero_mul, Nat.add_zero] at hp hq
  have HB2 : Hid (Below w.heap.size w ((w.alloc (.cells #[.int .i64 0, .int .i64 0] 27)).alloc (.cells #[.int .i64 0, .int .i64 (-1)] 27))) := HB1.out.alloc HB1.out.size _
  have HQ2 : Hid (Box2R ((w.alloc (.cells #[.int .i64 0, .int .i64 0] 27)).alloc (.cells #[.int .i64 0, .int .i64 (-1)] 27)) w.heap.size 27 (.int .i64 0) (.int .i64 0)) := HQ1.out.alloc _
  have HP2 : Hid (Box2R ((w.alloc (.cells #[.int .i64 0, .int .i64 0] 27)).alloc (.cells #[.int .i64 0, .int .i64 (-1)] 27)) (w.heap.size + 1) 27 (.int .i64 0) (.int .i64 (-1))) := by
    have := Box2R.new (w.alloc (.cells #[.int .i64 0, .int .i64 0] 27)) 27 (.int .i64 0) (.int .i64 (-1))
    rwa [World.size_alloc] at this
  go_enter Tryd.func9, Tryd.ntmps9
  go_wp2_with fail
  obtain ⟨w2, hw2⟩ : ∃ w2, (w.alloc (.cells #[.int .i64 0, .int .i64 0] 27)).alloc (.cells #[.int .i64 0, .int .i64 (-1)] 27) = w2 := ⟨_, rfl⟩
  rw [hw2] at HB2 HQ2 HP2 ⊢
  clear hw2 HB1 HQ1 hp hq
  refine (implNumber_any y w2 HY.out (HS.out.below HB2.out)).mono ?_
  rintro e w3 ⟨rfl, hb3⟩
  have HB3 : Hid (Below w.heap.size w w3) := HB2.out.trans (hb3.mono HB2.out.size)
  have HP3 := (show Hid (Box2R w3 (w.heap.size + 1) 27 (.int .i64 0) (.int .i64 (-1))) from HP2.out.stays hb3)
  have HQ3 := (show Hid (Box2R w3 w.heap.size 27 (.int .i64 0) (.int .i64 0)) from HQ2.out.stays hb3)
  clear hb3 HB2 HP2 HQ2
  obtain ⟨sv, hsv⟩ : ∃ sv, (upR y.data.toList 1000000000).1 = sv := ⟨_, rfl⟩
  have HSv : Hid (stOf xs = sv) := by show _ = _; rw [HS0.out, hsv]
  rw [hsv]
  clear hsv HS0
  generalize (upR y.data.toList 1000000000).2 = sb
  have HP4 := (show Hid (Box2R (w3.setCell ⟨w.heap.size + 1, 0, none⟩ (.int .i64 sv)) (w.heap.size + 1) 27 (.int .i64 sv) (.int .i64 (-1))) from HP3.out.set0 _)
  have HQ4 := (show Hid (Box2R (w3.setCell ⟨w.heap.size + 1, 0, none⟩ (.int .i64 sv)) w.heap.size 27 (.int .i64 0) (.int .i64 0)) from HQ3.out.other (by omega) _)
  have HB4 : Hid (Below w.heap.size w (w3.setCell ⟨w.heap.size + 1, 0, none⟩ (.int .i64 sv))) := HB3.out.setCell (p := ⟨w.heap.size + 1, 0, none⟩) (by show _ ≤ w.heap.size + 1; omega) _
  obtain ⟨e0, e1⟩ := HP3.out.cells
  have z0 := HP3.out.frozen 0
  go_upto_region 5 with fail
  obtain ⟨w4, hw4⟩ : ∃ w4, w3.setCell ⟨w.heap.size + 1, 0, none⟩ (.int .i64 sv) = w4 := ⟨_, rfl⟩
  rw [hw4] at HP4 HQ4 HB4 ⊢
  clear hw4 e0 e1 z0 HP3 HQ3 HB3
  by_cases h1 : len = 1
  · have hi1 : ¬ (1 : Int) < (len : Int) := by omega
    obtain ⟨ov, hov⟩ : ∃ ov : Int, ov = -1 := ⟨_, rfl⟩
    have HOv : Hid (offOf xs = ov) := by show _ = _; rw [HO1.out h1, hov]
    rw [← hov] at HP4
    have HP := HP4
    have HQ := HQ4
    have HB := HB4
    clear HP4 HQ4 HB4 hov h1 HO1
    have HSt : Hid (stOf xs = sv) := HSv.out
    have HFx : Hid (∀ W : World, Below w.heap.size w W → Calls Tryd.prog 10 #[.agg #[.int .i64 sv, .int .i64 ov]] W fun e w' => ∃ A C, e = .returned (.slice A (respF sv ov).length C) ∧ OwnF w' W.heap.size (.slice A (respF sv ov).length C) (respF sv ov).length (respF sv ov) ∧ Below W.heap.size W w') := fun W hW => implRespF_any sv ov W (HS.out.below hW).1
    have HLe : Hid ((respF sv ov).length ≤ 4) := respF_len sv ov
    have HR2 : Hid (respOfR xs = if sameL (respF sv ov) xs = true then ((sv, ov), true) else ((0, 0), false)) := by show _ = _; rw [HR.out, HSt.out, HOv.out]
    obtain ⟨d0, d1⟩ := HP.out.cells
    go_wp2_with fail
    refine (HFx.out _ HB.out).mono ?_
    rintro e y1 ⟨A, C, rfl, ho1, hb1⟩
    have HBy : Hid (Below w.heap.size w y1) := HB.out.trans (hb1.mono HB.out.size)
    have HPy := (show Hid (Box2R y1 (w.heap.size + 1) 27 (.int .i64 sv) (.int .i64 ov)) from HP.out.stays hb1)
    have HQy := (show Hid (Box2R y1 w.heap.size 27 (.int .i64 0) (.int .i64 0)) from HQ.out.stays hb1)
    have HFy : Hid (Flds y1 A (respF sv ov).length (respF sv ov)) := ho1.flds
    have HXy : Hid (Flds y1 (some ⟨b, off, none⟩) len xs) := HX.out.below HBy.out
    clear ho1 hb1 HB HP HQ d0 d1 HFx HR HSt HSv HOv
    generalize respF sv ov = fs at *
    go_wp2_with fail
    refine (implEqual_any A (some ⟨b, off, none⟩) fs.length len C cap fs xs y1 HFy.out HXy.out (by have := HLe.out; omega) hl).mono ?_
    rintro e y2 ⟨rfl, hb2⟩
    have HBz : Hid (Below w.heap.size w y2) := HBy.out.trans (hb2.mono HBy.out.size)
    have HPz := (show Hid (Box2R y2 (w.heap.size + 1) 27 (.int .i64 sv) (.int .i64 ov)) from HPy.out.stays hb2)
    have HQz := (show Hid (Box2R y2 w.heap.size 27 (.int .i64 0) (.int .i64 0)) from HQy.out.stays hb2)
    clear hb2 HBy HPy HQy HFy HXy HX
    obtain ⟨d0, d1⟩ := HPz.out.cells
    obtain ⟨g0, g1⟩ := HQz.out.cells
    have f0 := HQz.out.frozen 0
    have f1 := HQz.out.frozen 1
    generalize sameL fs xs = bb at *
    clear HPz HQz
    cases bb
    · rw [if_neg (by simp)] at HR2
      have HBl := (show Hid (Below w.heap.size w _) from below_set2 HBz.out (Nat.le_refl _) (.int .i64 0) (.int .i64 0))
      go_wp2
      refine bodyPost_ret (v := .tuple #[.agg #[.int .i64 0, .int .i64 0], .bool false]) (by simp [results, Tryd.f9, go_sem, g0, g1]) rfl ?_
      exact ⟨by rw [HR2.out], HBl.out⟩
    · rw [if_pos rfl] at HR2
      have HBl := (show Hid (Below w.heap.size w _) from below_set2 HBz.out (Nat.le_refl _) (.int .i64 sv) (.int .i64 ov))
      go_wp2
      refine bodyPost_ret (v := .tuple #[.agg #[.int .i64 sv, .int .i64 ov], .bool true]) (by simp [results, Tryd.f9, go_sem, g0, g1]) rfl ?_
      exact ⟨by rw [HR2.out], HBl.out⟩
  have hi1 : (1 : Int) < (len : Int) := by omega
  obtain ⟨b2, off2, x', y', he, hb2, hkx', hp', hq'⟩ := (HX.out.below HB4.out).at (k := 1) (by omega)
  injection he with he
  injection he with he1 he2 he3
  subst he1
  subst he2
  simp only [Nat.one_mul] at hp' hq'
  have HO0 : Hid (offOf xs = (upR y'.data.toList 1000000000).1) := by
    show _ = _
    match xs, hkx' with
    | f :: g :: r, hkx' =>
      obtain rfl : g = (x', y') := by simpa using hkx'
      rfl
  have HY' : Hid (y'.size ≤ 281474976710656) := HVb.out (x', y') (List.mem_of_getElem? hkx')
  clear hkx' hb2 HO1
  go_wp2_with fail
  refine (implNumber_any y' w4 HY'.out (HS.out.below HB4.out)).mono ?_
  rintro e w5 ⟨rfl, hb5⟩
  have HB5 : Hid (Below w.heap.size w w5) := HB4.out.trans (hb5.mono HB4.out.size)
  have HP5 := (show Hid (Box2R w5 (w.heap.size + 1) 27 (.int .i64 sv) (.int .i64 (-1))) from HP4.out.stays hb5)
  have HQ5 := (show Hid (Box2R w5 w.heap.size 27 (.int .i64 0) (.int .i64 0)) from HQ4.out.stays hb5)
  clear hb5 HB4 HP4 HQ4 hp' hq'
  obtain ⟨ov, hov⟩ : ∃ ov, (upR y'.data.toList 1000000000).1 = ov := ⟨_, rfl⟩
  have HOv : Hid (offOf xs = ov) := by show _ = _; rw [HO0.out, hov]
  rw [hov]
  clear hov HO0
  generalize (upR y'.data.toList 1000000000).2 = sb'
  have HP := (show Hid (Box2R (w5.setCell ⟨w.heap.size + 1, 1, none⟩ (.int .i64 ov)) (w.heap.size + 1) 27 (.int .i64 sv) (.int .i64 ov)) from HP5.out.set1 _)
  have HQ := (show Hid (Box2R (w5.setCell ⟨w.heap.size + 1, 1, none⟩ (.int .i64 ov)) w.heap.size 27 (.int .i64 0) (.int .i64 0)) from HQ5.out.other (by omega) _)
  have HB : Hid (Below w.heap.size w (w5.setCell ⟨w.heap.size + 1, 1, none⟩ (.int .i64 ov))) := HB5.out.setCell (p := ⟨w.heap.size + 1, 1, none⟩) (by show _ ≤ w.heap.size + 1; omega) _
  obtain ⟨e0, e1⟩ := HP5.out.cells
  have z0 := HP5.out.frozen 1
  go_upto_region 7 with fail
  obtain ⟨w6, hw6⟩ : ∃ w6, w5.setCell ⟨w.heap.size + 1, 1, none⟩ (.int .i64 ov) = w6 := ⟨_, rfl⟩
  rw [hw6] at HP HQ HB ⊢
  clear hw6 e0 e1 z0 HP5 HQ5 HB5
  have HSt : Hid (stOf xs = sv) := HSv.out
  have HFx : Hid (∀ W : World, Below w.heap.size w W → Calls Tryd.prog 10 #[.agg #[.int .i64 sv, .int .i64 ov]] W fun e w' => ∃ A C, e = .returned (.slice A (respF sv ov).length C) ∧ OwnF w' W.heap.size (.slice A (respF sv ov).length C) (respF sv ov).length (respF sv ov) ∧ Below W.heap.size W w') := fun W hW => implRespF_any sv ov W (HS.out.below hW).1
  have HLe : Hid ((respF sv ov).length ≤ 4) := respF_len sv ov
  have HR2 : Hid (respOfR xs = if sameL (respF sv ov) xs = true then ((sv, ov), true) else ((0, 0), false)) := by show _ = _; rw [HR.out, HSt.out, HOv.out]
  obtain ⟨d0, d1⟩ := HP.out.cells
  go_wp2_with fail
  refine (HFx.out _ HB.out).mono ?_
  rintro e y1 ⟨A, C, rfl, ho1, hb1⟩
  have HBy : Hid (Below w.heap.size w y1) := HB.out.trans (hb1.mono HB.out.size)
  have HPy := (show Hid (Box2R y1 (w.heap.size + 1) 27 (.int .i64 sv) (.int .i64 ov)) from HP.out.stays hb1)
  have HQy := (show Hid (Box2R y1 w.heap.size 27 (.int .i64 0) (.int .i64 0)) from HQ.out.stays hb1)
  have HFy : Hid (Flds y1 A (respF sv ov).length (respF sv ov)) := ho1.flds
  have HXy : Hid (Flds y1 (some ⟨b, off, none⟩) len xs) := HX.out.below HBy.out
  clear ho1 hb1 HB HP HQ d0 d1 HFx HR HSt HSv HOv
  generalize respF sv ov = fs at *
  go_wp2_with fail
  refine (implEqual_any A (some ⟨b, off, none⟩) fs.length len C cap fs xs y1 HFy.out HXy.out (by have := HLe.out; omega) hl).mono ?_
  rintro e y2 ⟨rfl, hb2⟩
  have HBz : Hid (Below w.heap.size w y2) := HBy.out.trans (hb2.mono HBy.out.size)
  have HPz := (show Hid (Box2R y2 (w.heap.size + 1) 27 (.int .i64 sv) (.int .i64 ov)) from HPy.out.stays hb2)
  have HQz := (show Hid (Box2R y2 w.heap.size 27 (.int .i64 0) (.int .i64 0)) from HQy.out.stays hb2)
  clear hb2 HBy HPy HQy HFy HXy HX
  obtain ⟨d0, d1⟩ := HPz.out.cells
  obtain ⟨g0, g1⟩ := HQz.out.cells
  have f0 := HQz.out.frozen 0
  have f1 := HQz.out.frozen 1
  generalize sameL fs xs = bb at *
  clear HPz HQz
  cases bb
  · rw [if_neg (by simp)] at HR2
    have HBl := (show Hid (Below w.heap.size w _) from below_set2 HBz.out (Nat.le_refl _) (.int .i64 0) (.int .i64 0))
    go_wp2
    refine bodyPost_ret (v := .tuple #[.agg #[.int .i64 0, .int .i64 0], .bool false]) (by simp [results, Tryd.f9, go_sem, g0, g1]) rfl ?_
    exact ⟨by rw [HR2.out], HBl.out⟩
  · rw [if_pos rfl] at HR2
    have HBl := (show Hid (Below w.heap.size w _) from below_set2 HBz.out (Nat.le_refl _) (.int .i64 sv) (.int .i64 ov))
    go_wp2
    refine bodyPost_ret (v := .tuple #[.agg #[.int .i64 sv, .int .i64 ov], .bool true]) (by simp [results, Tryd.f9, go_sem, g0, g1]) rfl ?_
    exact ⟨by rw [HR2.out], HBl.out⟩

end Go.Proofs.YthojijhafhnclaeDoor
