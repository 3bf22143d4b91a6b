/- What the specification's RespOf answers: the answer that fields are, or nothing. -/
import Derived.Test.YthojijhafhnclarDoorRespOfN
import Derived.Test.YthojijhafhnclarDoorRespOkS
import Derived.Test.YthojijhafhnclarDoorReqNumS
import Derived.Test.YthojijhafhnclarDoorBox2R
import Derived.Deep.CutBlock
import Derived.Deep.QuietTactic
namespace Go.Proofs.YthojijhafhnclarDoor
open Go.RowKit
set_option linter.unusedVariables false

theorem below_set2S {B : Nat} {w W : World} (h : Below B w W) {b : Nat} (hb : B ≤ b) (x y : Value) : Below B w ((W.setCell ⟨b, 0, none⟩ x).setCell ⟨b, 1, none⟩ y) :=
  (h.setCell (p := ⟨b, 0, none⟩) hb _).setCell (p := ⟨b, 1, none⟩) hb _

/-- What decides, of one field. -/
theorem one_ends {xs : List Fld} {x y : ByteArray} (hl : xs.length = 1) (h : xs[0]? = some (x, y)) :
    ((numM y.data.toList 599).2 = false → respOfR xs = ((0, 0), false)) ∧ ((numM y.data.toList 599).2 = true → (x.toList == bSt) = false → respOfR xs = ((0, 0), false)) ∧ ((numM y.data.toList 599).2 = true → respB (numM y.data.toList 599).1 (-1) = false → respOfR xs = ((0, 0), false)) ∧ ((numM y.data.toList 599).2 = true → (x.toList == bSt) = true → respB (numM y.data.toList 599).1 (-1) = true → respOfR xs = (((numM y.data.toList 599).1, -1), true)) := by
  obtain rfl : xs = [(x, y)] := by
    match xs, hl with
    | [f], _ => simpa using h
  obtain ⟨e1, e2⟩ := numM_upR y.data.toList 599
  rw [respOfR_one]
  refine ⟨fun h => if_neg fun hh => ?_, fun h1 h2 => if_neg fun hh => ?_, fun h1 h2 => if_neg fun hh => ?_, fun h1 h2 h3 => ?_⟩
  · rw [← e1, h] at hh
    cases hh.1
  · have := hh.2.1
    dsimp only at this
    rw [this] at h2
    simp at h2
  · rw [e2 (by rw [← e1]; exact h1)] at h2
    rw [h2] at hh
    cases hh.2.2
  · have e := e2 (by rw [← e1]; exact h1)
    rw [e] at h3 ⊢
    exact if_pos ⟨by rw [← e1]; exact h1, beq_iff_eq.1 h2, h3⟩

/-- What decides, of two fields. -/
theorem two_ends {xs : List Fld} {x y x' y' : ByteArray} (hl : xs.length = 2) (h : xs[0]? = some (x, y)) (h' : xs[1]? = some (x', y')) {ok : Bool} (hok : ok = ((numM y.data.toList 599).2 && (numM y'.data.toList 1000000000).2 && (x'.toList == bOf))) :
    (ok = false → respOfR xs = ((0, 0), false)) ∧ (ok = true → (x.toList == bSt) = false → respOfR xs = ((0, 0), false)) ∧ (ok = true → respB (numM y.data.toList 599).1 (numM y'.data.toList 1000000000).1 = false → respOfR xs = ((0, 0), false)) ∧ (ok = true → (x.toList == bSt) = true → respB (numM y.data.toList 599).1 (numM y'.data.toList 1000000000).1 = true → respOfR xs = (((numM y.data.toList 599).1, (numM y'.data.toList 1000000000).1), true)) := by
  obtain rfl : xs = [(x, y), (x', y')] := by
    match xs, hl with
    | [f, g], _ =>
      have e1 : f = (x, y) := by simpa using h
      have e2 : g = (x', y') := by simpa using h'
      rw [e1, e2]
  subst hok
  obtain ⟨e1, e2⟩ := numM_upR y.data.toList 599
  obtain ⟨e3, e4⟩ := numM_upR y'.data.toList 1000000000
  have hb : ((numM y.data.toList 599).2 && (numM y'.data.toList 1000000000).2 && (x'.toList == bOf)) = true ↔ (upR y.data.toList 599).2 = true ∧ (upR y'.data.toList 1000000000).2 = true ∧ x'.toList = bOf := by
    rw [Bool.and_eq_true, Bool.and_eq_true, beq_iff_eq, e1, e3, and_assoc]
  rw [respOfR_two]
  refine ⟨fun h => if_neg fun hh => ?_, fun h1 h2 => if_neg fun hh => ?_, fun h1 h2 => if_neg fun hh => ?_, fun h1 h2 h3 => ?_⟩
  · rw [hb.2 ⟨hh.1, hh.2.1, hh.2.2.1⟩] at h
    cases h
  · have := hh.2.2.2.1
    dsimp only at this
    rw [this] at h2
    simp at h2
  · have hq := hb.1 h1
    rw [e2 hq.1, e4 hq.2.1] at h2
    rw [h2] at hh
    cases hh.2.2.2.2
  · have hq := hb.1 h1
    rw [e2 hq.1, e4 hq.2.1] at h3 ⊢
    exact if_pos ⟨hq.1, hq.2.1, hq.2.2, beq_iff_eq.1 h2, h3⟩

set_option maxRecDepth 10000 in
set_option maxHeartbeats 3200000 in
theorem specRespOf_any (a : Option Addr) (len cap : Nat) (xs : List Fld) (w : World) (hx : Flds w a len xs) (hl : len ≤ 1099511627776) :
    Calls Tryd.prog 12 #[.slice a len cap] w fun e w' => e = .returned (.tuple #[.agg #[.int .i64 (respOfR xs).1.1, .int .i64 (respOfR xs).1.2], .bool (respOfR xs).2]) ∧ Below w.heap.size w w' := by
  have HX : Hid (Flds w a len xs) := hx
  have HL : Hid (xs.length = len) := hx.1
  clear hx
  have HB1 : Hid (Below w.heap.size w (w.alloc (.cells #[.int .i64 0, .int .i64 0] 26))) := (Below.refl _ _).alloc (Nat.le_refl _) _
  have HQ1 : Hid (Box2R (w.alloc (.cells #[.int .i64 0, .int .i64 0] 26)) w.heap.size 26 (.int .i64 0) (.int .i64 0)) := Box2R.new _ _ _ _
  have HB2 : Hid (Below w.heap.size w ((w.alloc (.cells #[.int .i64 0, .int .i64 0] 26)).alloc (.cells #[.int .i64 0, .int .i64 (-1)] 26))) := HB1.out.alloc HB1.out.size _
  have HQ2 : Hid (Box2R ((w.alloc (.cells #[.int .i64 0, .int .i64 0] 26)).alloc (.cells #[.int .i64 0, .int .i64 (-1)] 26)) w.heap.size 26 (.int .i64 0) (.int .i64 0)) := HQ1.out.alloc _
  have HP2 : Hid (Box2R ((w.alloc (.cells #[.int .i64 0, .int .i64 0] 26)).alloc (.cells #[.int .i64 0, .int .i64 (-1)] 26)) (w.heap.size + 1) 26 (.int .i64 0) (.int .i64 (-1))) := by
    have := Box2R.new (w.alloc (.cells #[.int .i64 0, .int .i64 0] 26)) 26 (.int .i64 0) (.int .i64 (-1))
    rwa [World.size_alloc] at this
  go_enter Tryd.func12, Tryd.ntmps12
  go_wp2_with fail
  obtain ⟨w2, hw2⟩ : ∃ w2, (w.alloc (.cells #[.int .i64 0, .int .i64 0] 26)).alloc (.cells #[.int .i64 0, .int .i64 (-1)] 26) = w2 := ⟨_, rfl⟩
  rw [hw2] at HB2 HQ2 HP2 ⊢
  clear hw2 HB1 HQ1
  refine (l1In_any (len : Int) 1 2 w2).mono ?_
  rintro e w3 ⟨rfl, hw3⟩
  subst hw3
  by_cases h12 : 1 ≤ len ∧ len ≤ 2
  case neg =>
    have hd : decide ((1 : Int) ≤ (len : Int) ∧ (len : Int) ≤ 2) = false := decide_eq_false (by omega)
    rw [hd]
    have HR : Hid (respOfR xs = ((0, 0), false)) := by
      show _ = _
      by_cases h0 : len = 0
      · have hnil : xs = [] := List.eq_nil_of_length_eq_zero (by rw [HL.out]; exact h0)
        rw [hnil]
        exact respOfR_none
      · exact respOfR_many (by have := HL.out; omega)
    obtain ⟨g0, g1⟩ := HQ2.out.cells
    have f0 := HQ2.out.frozen 0
    have f1 := HQ2.out.frozen 1
    have HBl := (show Hid (Below w.heap.size w _) from below_set2S HB2.out (Nat.le_refl _) (.int .i64 0) (.int .i64 0))
    clear h12 hd HQ2 HP2
    go_wp2
    refine bodyPost_ret (v := .tuple #[.agg #[.int .i64 0, .int .i64 0], .bool false]) (by simp [results, Tryd.f12, go_sem, g0, g1]) rfl ?_
    exact ⟨by rw [HR.out], HBl.out⟩
  have hd : decide ((1 : Int) ≤ (len : Int) ∧ (len : Int) ≤ 2) = true := decide_eq_true (by omega)
  rw [hd]
  clear hd
  obtain ⟨b, off, x, y, rfl, hb, hkx, hp, hq⟩ := (HX.out.below HB2.out).at (k := 0) (by omega)
  have HK0 : Hid (xs[0]? = some (x, y)) := hkx
  have hym := (HX.out.2.1 (x, y) (List.mem_of_getElem? hkx)).2
  unfold maxLen at hym
  dsimp only at hym
  simp only [Nat.zero_mul, Nat.add_zero] at hp hq
  have HX0 : Hid (Flds w (some ⟨b, off, none⟩) len xs) := HX.out
  clear hkx HX
  have hl0 : (0 : Int) < (len : Int) := by omega
  go_wp2_with fail
  refine (specNumM_any y 599 w3 (by omega)).mono ?_
  rintro e w4 ⟨rfl, hw4⟩
  subst hw4
  have HE1 : Hid (len = 1 → ((numM y.data.toList 599).2 = false → respOfR xs = ((0, 0), false)) ∧ ((numM y.data.toList 599).2 = true → (x.toList == bSt) = false → respOfR xs = ((0, 0), false)) ∧ ((numM y.data.toList 599).2 = true → respB (numM y.data.toList 599).1 (-1) = false → respOfR xs = ((0, 0), false)) ∧ ((numM y.data.toList 599).2 = true → (x.toList == bSt) = true → respB (numM y.data.toList 599).1 (-1) = true → respOfR xs = (((numM y.data.toList 599).1, -1), true))) := fun h => one_ends (by rw [HL.out]; exact h) HK0.out
  have HE2 : Hid (∀ (x' y' : ByteArray) (ok : Bool), len = 2 → xs[1]? = some (x', y') → ok = ((numM y.data.toList 599).2 && (numM y'.data.toList 1000000000).2 && (x'.toList == bOf)) → (ok = false → respOfR xs = ((0, 0), false)) ∧ (ok = true → (x.toList == bSt) = false → respOfR xs = ((0, 0), false)) ∧ (ok = true → respB (numM y.data.toList 599).1 (numM y'.data.toList 1000000000).1 = false → respOfR xs = ((0, 0), false)) ∧ (ok = true → (x.toList == bSt) = true → respB (numM y.data.toList 599).1 (numM y'.data.toList 1000000000).1 = true → respOfR xs = (((numM y.data.toList 599).1, (numM y'.data.toList 1000000000).1), true))) := fun x' y' ok h h1 hok => two_ends (by rw [HL.out]; exact h) HK0.out h1 hok
  obtain ⟨⟨sv, ok0⟩, hnm⟩ : ∃ p, numM y.data.toList 599 = p := ⟨_, rfl⟩
  rw [hnm] at HE1 HE2 ⊢
  dsimp only at HE1 HE2
  clear hnm hp hq hb
  have HP4 := (show Hid (Box2R (w4.setCell ⟨w.heap.size + 1, 0, none⟩ (.int .i64 sv)) (w.heap.size + 1) 26 (.int .i64 sv) (.int .i64 (-1))) from HP2.out.set0 _)
  have HQ4 := (show Hid (Box2R (w4.setCell ⟨w.heap.size + 1, 0, none⟩ (.int .i64 sv)) w.heap.size 26 (.int .i64 0) (.int .i64 0)) from HQ2.out.other (by omega) _)
  have HB4 : Hid (Below w.heap.size w (w4.setCell ⟨w.heap.size + 1, 0, none⟩ (.int .i64 sv))) := HB2.out.setCell (p := ⟨w.heap.size + 1, 0, none⟩) (by show _ ≤ w.heap.size + 1; omega) _
  have HF4 : Hid (Flds (w4.setCell ⟨w.heap.size + 1, 0, none⟩ (.int .i64 sv)) (some ⟨b, off, none⟩) len xs) := HX0.out.below HB4.out
  obtain ⟨e0, e1⟩ := HP2.out.cells
  have z0 := HP2.out.frozen 0
  go_upto_region 6 with fail
  obtain ⟨w5, hw5⟩ : ∃ w5, w4.setCell ⟨w.heap.size + 1, 0, none⟩ (.int .i64 sv) = w5 := ⟨_, rfl⟩
  rw [hw5] at HP4 HQ4 HB4 HF4 ⊢
  clear hw5 e0 e1 z0 HP2 HQ2 HB2
  by_cases h1 : len = 1
  · have hi1 : ((len : Int) == 2) = false := by simp; omega
    obtain ⟨ov, hov⟩ : ∃ ov : Int, ov = -1 := ⟨_, rfl⟩
    have HE := (show Hid ((ok0 = false → respOfR xs = ((0, 0), false)) ∧ (ok0 = true → (x.toList == bSt) = false → respOfR xs = ((0, 0), false)) ∧ (ok0 = true → respB sv ov = false → respOfR xs = ((0, 0), false)) ∧ (ok0 = true → (x.toList == bSt) = true → respB sv ov = true → respOfR xs = ((sv, ov), true))) from by rw [hov]; exact HE1.out h1)
    rw [← hov] at HP4
    have HP := HP4
    have HQ := HQ4
    have HB := HB4
    have HF := HF4
    obtain ⟨okb, hokb⟩ : ∃ okb, ok0 = okb := ⟨_, rfl⟩
    rw [hokb] at HE ⊢
    clear HP4 HQ4 HB4 HF4 hov HE1 HE2 hokb
    obtain ⟨b3, off3, x3, y3, he3, _, hk3, hp3, _⟩ := (HF.out).at (k := 0) (by omega)
    injection he3 with he3
    injection he3 with he31 he32 he33
    subst he31
    subst he32
    obtain rfl : x3 = x := by have := HK0.out; rw [hk3] at this; injection this with this; injection this
    simp only [Nat.zero_mul, Nat.add_zero] at hp3
    clear hk3 HF HK0
    obtain ⟨d0, d1⟩ := HP.out.cells
    obtain ⟨g0, g1⟩ := HQ.out.cells
    have f0 := HQ.out.frozen 0
    have f1 := HQ.out.frozen 1
    have HBl := (show Hid (Below w.heap.size w _) from below_set2S HB.out (Nat.le_refl _) (.int .i64 0) (.int .i64 0))
    cases okb
    · have HR := (show Hid (respOfR xs = ((0, 0), false)) from HE.out.1 rfl)
      clear HE HP HQ HB
      go_wp2
      refine bodyPost_ret (v := .tuple #[.agg #[.int .i64 0, .int .i64 0], .bool false]) (by simp [results, Tryd.f12, go_sem, g0, g1]) rfl ?_
      exact ⟨by rw [HR.out], HBl.out⟩
    cases hxn : (x3.toList == [58, 115, 116, 97, 116, 117, 115])
    · have HR := (show Hid (respOfR xs = ((0, 0), false)) from HE.out.2.1 rfl hxn)
      clear HE HP HQ HB
      go_wp2
      refine bodyPost_ret (v := .tuple #[.agg #[.int .i64 0, .int .i64 0], .bool false]) (by simp [results, Tryd.f12, go_sem, g0, g1]) rfl ?_
      exact ⟨by rw [HR.out], HBl.out⟩
    have HE3 := (show Hid (respB sv ov = false → respOfR xs = ((0, 0), false)) from HE.out.2.2.1 rfl)
    have HE4 := (show Hid (respB sv ov = true → respOfR xs = ((sv, ov), true)) from HE.out.2.2.2 rfl hxn)
    clear HE HBl
    go_wp2_with fail
    refine (specRespOk_any sv ov _).mono ?_
    rintro e v1 ⟨rfl, hb1⟩
    have HB7 : Hid (Below w.heap.size w v1) := HB.out.trans (hb1.mono HB.out.size)
    have HP7 := (show Hid (Box2R v1 (w.heap.size + 1) 26 (.int .i64 sv) (.int .i64 ov)) from HP.out.stays hb1)
    have HQ7 := (show Hid (Box2R v1 w.heap.size 26 (.int .i64 0) (.int .i64 0)) from HQ.out.stays hb1)
    clear hb1 HB HP HQ d0 d1 g0 g1 f0 f1 hp3
    obtain ⟨d0, d1⟩ := HP7.out.cells
    obtain ⟨g0, g1⟩ := HQ7.out.cells
    have f0 := HQ7.out.frozen 0
    have f1 := HQ7.out.frozen 1
    generalize respB sv ov = bb at *
    cases bb
    · have HR := (show Hid (respOfR xs = ((0, 0), false)) from HE3.out rfl)
      have HBl := (show Hid (Below w.heap.size w _) from below_set2S HB7.out (Nat.le_refl _) (.int .i64 0) (.int .i64 0))
      clear HE3 HE4 HP7 HQ7
      go_wp2
      refine bodyPost_ret (v := .tuple #[.agg #[.int .i64 0, .int .i64 0], .bool false]) (by simp [results, Tryd.f12, go_sem, g0, g1]) rfl ?_
      exact ⟨by rw [HR.out], HBl.out⟩
    · have HR := (show Hid (respOfR xs = ((sv, ov), true)) from HE4.out rfl)
      have HBl := (show Hid (Below w.heap.size w _) from below_set2S HB7.out (Nat.le_refl _) (.int .i64 sv) (.int .i64 ov))
      clear HE3 HE4 HP7 HQ7
      go_wp2
      refine bodyPost_ret (v := .tuple #[.agg #[.int .i64 sv, .int .i64 ov], .bool true]) (by simp [results, Tryd.f12, go_sem, g0, g1]) rfl ?_
      exact ⟨by rw [HR.out], HBl.out⟩
  have h2 : len = 2 := by omega
  have hi2 : ((len : Int) == 2) = true := by simp; omega
  have hi1 : (1 : Int) < (len : Int) := by omega
  obtain ⟨b2, off2, x', y', he, hb2, hkx', hp', hq'⟩ := HF4.out.at (k := 1) (by omega)
  injection he with he
  injection he with he1 he2 he3
  subst he1
  subst he2
  simp only [Nat.one_mul] at hp' hq'
  have HK1 : Hid (xs[1]? = some (x', y')) := hkx'
  have hym' := (HX0.out.2.1 (x', y') (List.mem_of_getElem? hkx')).2
  unfold maxLen at hym'
  dsimp only at hym'
  clear hkx' hb2 HE1
  go_wp2_with fail
  refine (specNumM_any y' 1000000000 w5 (by omega)).mono ?_
  rintro e w6 ⟨rfl, hw6⟩
  subst hw6
  have HE2 := (show Hid (∀ (x'' : ByteArray) (y'' : ByteArray) (ok : Bool), len = 2 → xs[1]? = some (x'', y'') → ok = (ok0 && (numM y''.data.toList 1000000000).2 && (x''.toList == bOf)) → (ok = false → respOfR xs = ((0, 0), false)) ∧ (ok = true → (x.toList == bSt) = false → respOfR xs = ((0, 0), false)) ∧ (ok = true → respB sv (numM y''.data.toList 1000000000).1 = false → respOfR xs = ((0, 0), false)) ∧ (ok = true → (x.toList == bSt) = true → respB sv (numM y''.data.toList 1000000000).1 = true → respOfR xs = ((sv, (numM y''.data.toList 1000000000).1), true))) from HE2.out)
  obtain ⟨⟨ov, ok1⟩, hnm⟩ : ∃ p, numM y'.data.toList 1000000000 = p := ⟨_, rfl⟩
  have HE5 := (show Hid (∀ (ok : Bool), ok = (ok0 && ok1 && (x'.toList == bOf)) → (ok = false → respOfR xs = ((0, 0), false)) ∧ (ok = true → (x.toList == bSt) = false → respOfR xs = ((0, 0), false)) ∧ (ok = true → respB sv ov = false → respOfR xs = ((0, 0), false)) ∧ (ok = true → (x.toList == bSt) = true → respB sv ov = true → respOfR xs = ((sv, ov), true))) from fun ok h => by
    have := HE2.out x' y' ok h2 HK1.out
    rw [hnm] at this
    exact this h)
  rw [hnm]
  clear hnm HE2
  have HP := (show Hid (Box2R (w6.setCell ⟨w.heap.size + 1, 1, none⟩ (.int .i64 ov)) (w.heap.size + 1) 26 (.int .i64 sv) (.int .i64 ov)) from HP4.out.set1 _)
  have HQ := (show Hid (Box2R (w6.setCell ⟨w.heap.size + 1, 1, none⟩ (.int .i64 ov)) w.heap.size 26 (.int .i64 0) (.int .i64 0)) from HQ4.out.other (by omega) _)
  have HB : Hid (Below w.heap.size w (w6.setCell ⟨w.heap.size + 1, 1, none⟩ (.int .i64 ov))) := HB4.out.setCell (p := ⟨w.heap.size + 1, 1, none⟩) (by show _ ≤ w.heap.size + 1; omega) _
  have HF : Hid (Flds (w6.setCell ⟨w.heap.size + 1, 1, none⟩ (.int .i64 ov)) (some ⟨b, off, none⟩) len xs) := HX0.out.below HB.out
  obtain ⟨e0, e1⟩ := HP4.out.cells
  have z0 := HP4.out.frozen 1
  clear hp' hq'
  go_upto_region 9 with fail
  obtain ⟨w7, hw7⟩ : ∃ w7, w6.setCell ⟨w.heap.size + 1, 1, none⟩ (.int .i64 ov) = w7 := ⟨_, rfl⟩
  rw [hw7] at HP HQ HB HF ⊢
  clear hw7 e0 e1 z0 HP4 HQ4 HB4 HF4
  obtain ⟨b2, off2, x2, y2, he, hb2, hkx', hp', hq'⟩ := HF.out.at (k := 1) (by omega)
  injection he with he
  injection he with he1 he2 he3
  subst he1
  subst he2
  obtain ⟨rfl, rfl⟩ : x2 = x' ∧ y2 = y' := by have := HK1.out; rw [hkx'] at this; injection this with this; injection this with h1 h2; exact ⟨h1, h2⟩
  simp only [Nat.one_mul] at hp' hq'
  clear hkx' hb2 HK1
  cases ok0
  case false =>
    have HR := (show Hid (respOfR xs = ((0, 0), false)) from (HE5.out _ rfl).1 rfl)
    obtain ⟨g0, g1⟩ := HQ.out.cells
    have f0 := HQ.out.frozen 0
    have f1 := HQ.out.frozen 1
    obtain ⟨b3, off3, x3, y3, he3, _, hk3, hp3, _⟩ := (HF.out).at (k := 0) (by omega)
    injection he3 with he3
    injection he3 with he31 he32 he33
    subst he31
    subst he32
    simp only [Nat.zero_mul, Nat.add_zero] at hp3
    have HBl := (show Hid (Below w.heap.size w _) from below_set2S HB.out (Nat.le_refl _) (.int .i64 0) (.int .i64 0))
    clear HE5 HP HQ HB HK0 hk3
    go_wp2
    refine bodyPost_ret (v := .tuple #[.agg #[.int .i64 0, .int .i64 0], .bool false]) (by simp [results, Tryd.f12, go_sem, g0, g1]) rfl ?_
    exact ⟨by rw [HR.out], HBl.out⟩
  cases ok1
  case false =>
    have HR := (show Hid (respOfR xs = ((0, 0), false)) from (HE5.out _ rfl).1 rfl)
    obtain ⟨g0, g1⟩ := HQ.out.cells
    have f0 := HQ.out.frozen 0
    have f1 := HQ.out.frozen 1
    obtain ⟨b3, off3, x3, y3, he3, _, hk3, hp3, _⟩ := (HF.out).at (k := 0) (by omega)
    injection he3 with he3
    injection he3 with he31 he32 he33
    subst he31
    subst he32
    simp only [Nat.zero_mul, Nat.add_zero] at hp3
    have HBl := (show Hid (Below w.heap.size w _) from below_set2S HB.out (Nat.le_refl _) (.int .i64 0) (.int .i64 0))
    clear HE5 HP HQ HB HK0 hk3
    go_wp2
    refine bodyPost_ret (v := .tuple #[.agg #[.int .i64 0, .int .i64 0], .bool false]) (by simp [results, Tryd.f12, go_sem, g0, g1]) rfl ?_
    exact ⟨by rw [HR.out], HBl.out⟩
  cases hnb : (x2.toList == [117, 112, 108, 111, 97, 100, 45, 111, 102, 102, 115, 101, 116])
  case false =>
    have HR := (show Hid (respOfR xs = ((0, 0), false)) from (HE5.out _ rfl).1 hnb)
    obtain ⟨g0, g1⟩ := HQ.out.cells
    have f0 := HQ.out.frozen 0
    have f1 := HQ.out.frozen 1
    obtain ⟨b3, off3, x3, y3, he3, _, hk3, hp3, _⟩ := (HF.out).at (k := 0) (by omega)
    injection he3 with he3
    injection he3 with he31 he32 he33
    subst he31
    subst he32
    simp only [Nat.zero_mul, Nat.add_zero] at hp3
    have HBl := (show Hid (Below w.heap.size w _) from below_set2S HB.out (Nat.le_refl _) (.int .i64 0) (.int .i64 0))
    clear HE5 HP HQ HB HK0 hk3
    go_wp2
    refine bodyPost_ret (v := .tuple #[.agg #[.int .i64 0, .int .i64 0], .bool false]) (by simp [results, Tryd.f12, go_sem, g0, g1]) rfl ?_
    exact ⟨by rw [HR.out], HBl.out⟩
  obtain ⟨okb, hokb⟩ : ∃ okb : Bool, true = okb := ⟨_, rfl⟩
  have HE := (show Hid ((okb = false → respOfR xs = ((0, 0), false)) ∧ (okb = true → (x.toList == bSt) = false → respOfR xs = ((0, 0), false)) ∧ (okb = true → respB sv ov = false → respOfR xs = ((0, 0), false)) ∧ (okb = true → (x.toList == bSt) = true → respB sv ov = true → respOfR xs = ((sv, ov), true))) from HE5.out okb (by rw [← hokb]; exact hnb.symm))
  clear HE5
  subst hokb
  obtain ⟨b3, off3, x3, y3, he3, _, hk3, hp3, _⟩ := (HF.out).at (k := 0) (by omega)
  injection he3 with he3
  injection he3 with he31 he32 he33
  subst he31
  subst he32
  obtain rfl : x3 = x := by have := HK0.out; rw [hk3] at this; injection this with this; injection this
  simp only [Nat.zero_mul, Nat.add_zero] at hp3
  clear hk3 HF HK0
  obtain ⟨d0, d1⟩ := HP.out.cells
  obtain ⟨g0, g1⟩ := HQ.out.cells
  have f0 := HQ.out.frozen 0
  have f1 := HQ.out.frozen 1
  have HBl := (show Hid (Below w.heap.size w _) from below_set2S HB.out (Nat.le_refl _) (.int .i64 0) (.int .i64 0))
  cases hxn : (x3.toList == [58, 115, 116, 97, 116, 117, 115])
  · have HR := (show Hid (respOfR xs = ((0, 0), false)) from HE.out.2.1 rfl hxn)
    clear HE HP HQ HB
    go_wp2
    refine bodyPost_ret (v := .tuple #[.agg #[.int .i64 0, .int .i64 0], .bool false]) (by simp [results, Tryd.f12, go_sem, g0, g1]) rfl ?_
    exact ⟨by rw [HR.out], HBl.out⟩
  have HE3 := (show Hid (respB sv ov = false → respOfR xs = ((0, 0), false)) from HE.out.2.2.1 rfl)
  have HE4 := (show Hid (respB sv ov = true → respOfR xs = ((sv, ov), true)) from HE.out.2.2.2 rfl hxn)
  clear HE HBl
  go_wp2_with fail
  refine (specRespOk_any sv ov _).mono ?_
  rintro e v1 ⟨rfl, hb1⟩
  have HB7 : Hid (Below w.heap.size w v1) := HB.out.trans (hb1.mono HB.out.size)
  have HP7 := (show Hid (Box2R v1 (w.heap.size + 1) 26 (.int .i64 sv) (.int .i64 ov)) from HP.out.stays hb1)
  have HQ7 := (show Hid (Box2R v1 w.heap.size 26 (.int .i64 0) (.int .i64 0)) from HQ.out.stays hb1)
  clear hb1 HB HP HQ d0 d1 g0 g1 f0 f1 hp3
  obtain ⟨d0, d1⟩ := HP7.out.cells
  obtain ⟨g0, g1⟩ := HQ7.out.cells
  have f0 := HQ7.out.frozen 0
  have f1 := HQ7.out.frozen 1
  generalize respB sv ov = bb at *
  cases bb
  · have HR := (show Hid (respOfR xs = ((0, 0), false)) from HE3.out rfl)
    have HBl := (show Hid (Below w.heap.size w _) from below_set2S HB7.out (Nat.le_refl _) (.int .i64 0) (.int .i64 0))
    clear HE3 HE4 HP7 HQ7
    go_wp2
    refine bodyPost_ret (v := .tuple #[.agg #[.int .i64 0, .int .i64 0], .bool false]) (by simp [results, Tryd.f12, go_sem, g0, g1]) rfl ?_
    exact ⟨by rw [HR.out], HBl.out⟩
  · have HR := (show Hid (respOfR xs = ((sv, ov), true)) from HE4.out rfl)
    have HBl := (show Hid (Below w.heap.size w _) from below_set2S HB7.out (Nat.le_refl _) (.int .i64 sv) (.int .i64 ov))
    clear HE3 HE4 HP7 HQ7
    go_wp2
    refine bodyPost_ret (v := .tuple #[.agg #[.int .i64 sv, .int .i64 ov], .bool true]) (by simp [results, Tryd.f12, go_sem, g0, g1]) rfl ?_
    exact ⟨by rw [HR.out], HBl.out⟩

end Go.Proofs.YthojijhafhnclarDoor
