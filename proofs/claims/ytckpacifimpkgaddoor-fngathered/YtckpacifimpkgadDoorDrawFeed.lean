/- The draw of what is gathered and of a frame. -/
import Derived.Test.YtckpacifimpkgadDoorDrawGa
import Derived.Test.YtckpacifimpkgadDoorDrawFrAny
import Derived.Test.YtckpacifimpkgadDoorPadS
import Derived.Deep.RegionHeld3
namespace Go.Proofs.YtckpacifimpkgadDoor
open Go.RowKit
set_option linter.unusedVariables false

/-- What the draw keeps: the cursor, the answer's two variables, what is gathered and the frame in variables of their own. -/
def DF (w W : World) (c : Nat) (a : Option Addr) (len cap : Nat) (zs : List Int) (gb fb : Nat) (s : Int) (en : Bool) (A : Option Addr) (n cp : Nat) (zg : List Int) (k f fs : Int) (g m cb : Nat) (ys : List Int) : Prop :=
  Cur W c c a len cap zs ∧ Below w.heap.size w W ∧ Box3 W w.heap.size 30 (.int .i64 0) (.bool false) (.slice none 0 0) ∧ Box4 W (w.heap.size + 1) 33 (.int .i64 0) (.int .i64 0) (.int .i64 0) (.slice none 0 0) ∧ Box3 W gb 30 (.int .i64 s) (.bool en) (.slice A n cp) ∧ Box4 W fb 33 (.int .i64 k) (.int .i64 f) (.int .i64 fs) (.slice (some ⟨g, 0, none⟩) m cb) ∧ Owns W (c + 1) A n cp zg ∧ Owns W (c + 1) (some ⟨g, 0, none⟩) m cb ys

section
variable {w W W' : World} {c : Nat} {a : Option Addr} {len cap : Nat} {zs : List Int} {gb fb : Nat} {s : Int} {en : Bool} {A : Option Addr} {n cp : Nat} {zg : List Int} {k f fs : Int} {g m cb : Nat} {ys : List Int}

theorem DF.call (h : DF w W c a len cap zs gb fb s en A n cp zg k f fs g m cb ys) (hc : Cur W' c c a len cap zs) (hg : W.grownBy W' (some c)) (hw : w.heap.size + 1 < c) (h1 : c < gb) (h2 : c < fb) : DF w W' c a len cap zs gb fb s en A n cp zg k f fs g m cb ys :=
  ⟨hc, h.2.1.grown hg h.2.1.size (fun q e => by injection e with e; omega), h.2.2.1.grown hg (fun e => by injection e with e; omega), h.2.2.2.1.grown hg (fun e => by injection e with e; omega), h.2.2.2.2.1.grown hg (fun e => by injection e with e; omega), h.2.2.2.2.2.1.grown hg (fun e => by injection e with e; omega), h.2.2.2.2.2.2.1.grown hg (fun q e e2 => by injection e with e; have := (h.2.2.2.2.2.2.1.lt q e2).1; omega), h.2.2.2.2.2.2.2.grown hg (fun q e e2 => by injection e with e; have := (h.2.2.2.2.2.2.2.lt q e2).1; omega)⟩

theorem DF.new (h : DF w W c a len cap zs gb fb s en A n cp zg k f fs g m cb ys) (o : Obj) : DF w (W.alloc o) c a len cap zs gb fb s en A n cp zg k f fs g m cb ys :=
  ⟨h.1.new o, h.2.1.alloc h.2.1.size _, h.2.2.1.alloc o, h.2.2.2.1.alloc o, h.2.2.2.2.1.alloc o, h.2.2.2.2.2.1.alloc o, h.2.2.2.2.2.2.1.below ((Below.refl _ _).alloc (Nat.le_refl _) _), h.2.2.2.2.2.2.2.below ((Below.refl _ _).alloc (Nat.le_refl _) _)⟩

/-- A cell of the frame's variable is written. -/
theorem DF.put (h : DF w W c a len cap zs gb fb s en A n cp zg k f fs g m cb ys) (hw : w.heap.size + 1 < c) (h2 : c < fb) (hne : gb ≠ fb) {i : Nat} {v : Value} {k' f' fs' : Int} {g' m' cb' : Nat} {ys' : List Int} (hb : Box4 (W.setCell ⟨fb, i, none⟩ v) fb 33 (.int .i64 k') (.int .i64 f') (.int .i64 fs') (.slice (some ⟨g', 0, none⟩) m' cb')) (ho : Owns W (c + 1) (some ⟨g', 0, none⟩) m' cb' ys') : DF w (W.setCell ⟨fb, i, none⟩ v) c a len cap zs gb fb s en A n cp zg k' f' fs' g' m' cb' ys' :=
  ⟨h.1.put h2 _, h.2.1.setCell (p := ⟨fb, i, none⟩) (by show w.heap.size ≤ fb; omega) _, box3_other h.2.2.1 (by omega), box4_other h.2.2.2.1 (by omega), box3_other h.2.2.2.2.1 hne, hb, owns_set h.2.2.2.2.2.2.1 (h.2.2.2.2.2.2.1.other (show W.heap[fb]? = _ from h.2.2.2.2.2.1) (by decide)), owns_set ho (ho.other (show W.heap[fb]? = _ from h.2.2.2.2.2.1) (by decide))⟩
end

/-- What was drawn: what is gathered, and a frame. -/
def FeedDrawn (w w' : World) (e : Ending) : Prop := ∃ (s : Int) (en : Bool) (A : Option Addr) (n cp : Nat) (zg : List Int) (k f fs : Int) (g m cb : Nat) (ys : List Int), e = .returned (.tuple #[.agg #[.int .i64 s, .bool en, .slice A n cp], .agg #[.int .i64 k, .int .i64 f, .int .i64 fs, .slice (some ⟨g, 0, none⟩) m cb]]) ∧ n ≤ 3001 ∧ m ≤ 1001 ∧ m ≤ cb ∧ Seg w' A n zg ∧ Seg w' (some ⟨g, 0, none⟩) m ys ∧ Below w.heap.size w w'

set_option maxRecDepth 10000 in
set_option maxHeartbeats 6400000 in
theorem drawFeed_any (a : Option Addr) (len cap : Nat) (zs : List Int) (w : World) (hs : Seg w a len zs) (hl : len ≤ 1099511627776) :
    Calls Tryd.prog 13 #[.slice a len cap] w fun e w' => FeedDrawn w w' e := by
  have HS : Hid (Seg w a len zs) := hs
  obtain ⟨w2, hw2⟩ : ∃ w2, (w.alloc (.cells #[.int .i64 0, .bool false, .slice none 0 0] 30)).alloc (.cells #[.int .i64 0, .int .i64 0, .int .i64 0, .slice none 0 0] 33) = w2 := ⟨_, rfl⟩
  have HE2 : Hid ((w.alloc (.cells #[.int .i64 0, .bool false, .slice none 0 0] 30)).alloc (.cells #[.int .i64 0, .int .i64 0, .int .i64 0, .slice none 0 0] 33) = w2) := hw2
  have HB2 : Hid (Below w.heap.size w w2) := by show Below _ _ _; rw [← hw2]; exact ((Below.refl _ _).alloc (Nat.le_refl _) _).alloc (by simp) _
  have HR2 : Hid (Box3 w2 w.heap.size 30 (.int .i64 0) (.bool false) (.slice none 0 0)) := by show Box3 _ _ _ _ _ _; rw [← hw2]; exact (Box3.new _ _ _ _ _).alloc _
  have HF2 : Hid (Box4 w2 (w.heap.size + 1) 33 (.int .i64 0) (.int .i64 0) (.int .i64 0) (.slice none 0 0)) := by
    show Box4 _ _ _ _ _ _ _
    rw [← hw2]
    have := Box4.new (w.alloc (.cells #[.int .i64 0, .bool false, .slice none 0 0] 30)) 33 (.int .i64 0) (.int .i64 0) (.int .i64 0) (.slice none 0 0)
    rwa [World.size_alloc] at this
  have hcw : w.heap.size + 1 < w2.heap.size := HF2.out.lt
  clear hs hw2
  go_enter Tryd.func13, Tryd.ntmps13
  go_upto_region 1 with fail
  rw [HE2.out]
  clear HE2
  go_wp2_with fail
  refine (l1New_any a len cap zs w2 (HS.out.below HB2.out) hl).mono ?_
  rintro e w3 ⟨rfl, hc3, hb3⟩
  have HC3 : Hid (Cur w3 w2.heap.size w2.heap.size a len cap zs) := hc3
  have HB3 : Hid (Below w.heap.size w w3) := HB2.out.trans (hb3.mono HB2.out.size)
  have HR3 : Hid (Box3 w3 w.heap.size 30 (.int .i64 0) (.bool false) (.slice none 0 0)) := HR2.out.stays hb3
  have HF3 : Hid (Box4 w3 (w.heap.size + 1) 33 (.int .i64 0) (.int .i64 0) (.int .i64 0) (.slice none 0 0)) := HF2.out.stays hb3
  have hc3l : w2.heap.size < w3.heap.size := hc3.lt
  clear hc3 hb3 HB2 HR2 HF2 HS
  generalize w2.heap.size = c at *
  go_wp2_with fail
  refine (l8Any_any c c a len cap zs _ HC3.out hl).mono ?_
  rintro e w4 ⟨s, en, A, n, cp, zg, rfl, hn, ho4, hc4, hg4⟩
  have hb4 : Below w.heap.size w w4 := HB3.out.grown hg4 HB3.out.size (fun q e => by injection e with e; omega)
  have hs4 : w3.heap.size ≤ w4.heap.size := hg4.size
  obtain ⟨w5, hw5⟩ : ∃ w5, w4.alloc (.cells #[.int .i64 s, .bool en, .slice A n cp] 30) = w5 := ⟨_, rfl⟩
  have HE5 : Hid (w4.alloc (.cells #[.int .i64 s, .bool en, .slice A n cp] 30) = w5) := hw5
  have HC5 : Hid (Cur w5 c c a len cap zs) := by rw [← hw5]; exact hc4.new _
  have HB5 : Hid (Below w.heap.size w w5) := by rw [← hw5]; exact hb4.alloc hb4.size _
  have HR5 : Hid (Box3 w5 w.heap.size 30 (.int .i64 0) (.bool false) (.slice none 0 0)) := by show Box3 _ _ _ _ _ _; rw [← hw5]; exact (HR3.out.grown hg4 (fun e => by injection e with e; omega)).alloc _
  have HF5 : Hid (Box4 w5 (w.heap.size + 1) 33 (.int .i64 0) (.int .i64 0) (.int .i64 0) (.slice none 0 0)) := by show Box4 _ _ _ _ _ _ _; rw [← hw5]; exact (HF3.out.grown hg4 (fun e => by injection e with e; omega)).alloc _
  have HG5 : Hid (Box3 w5 w4.heap.size 30 (.int .i64 s) (.bool en) (.slice A n cp)) := by show Box3 _ _ _ _ _ _; rw [← hw5]; exact Box3.new _ _ _ _ _
  have HO5 : Hid (Owns w5 (c + 1) A n cp zg) := by show Owns _ _ _ _ _ _; rw [← hw5]; exact (ho4.low (by omega)).below ((Below.refl _ _).alloc (Nat.le_refl _) _)
  have hcg : c < w4.heap.size := by omega
  have hg5l : w4.heap.size < w5.heap.size := HG5.out.lt
  clear hw5 hc4 hg4 hb4 ho4 hs4 HC3 HB3 HR3 HF3 hc3l
  go_upto_region 3 with fail
  rw [HE5.out]
  clear HE5
  generalize w4.heap.size = gb at *
  go_wp2_with fail
  refine (l6Any_any c c a len cap zs _ HC5.out hl).mono ?_
  rintro e w6 ⟨k, f, fs, g, m, cb, ys, rfl, hm, hgg, ho6, hc6, hg6⟩
  have hs6 : w5.heap.size ≤ w6.heap.size := hg6.size
  have hb6 : Below w.heap.size w w6 := HB5.out.grown hg6 HB5.out.size (fun q e => by injection e with e; omega)
  obtain ⟨w7, hw7⟩ : ∃ w7, w6.alloc (.cells #[.int .i64 k, .int .i64 f, .int .i64 fs, .slice (some ⟨g, 0, none⟩) m cb] 33) = w7 := ⟨_, rfl⟩
  have HE7 : Hid (w6.alloc (.cells #[.int .i64 k, .int .i64 f, .int .i64 fs, .slice (some ⟨g, 0, none⟩) m cb] 33) = w7) := hw7
  have HD7 : Hid (DF w w7 c a len cap zs gb w6.heap.size s en A n cp zg k f fs g m cb ys) := by
    show DF _ _ _ _ _ _ _ _ _ _ _ _ _ _ _ _ _ _ _ _ _ _
    rw [← hw7]
    exact ⟨hc6.new _, hb6.alloc hb6.size _, (HR5.out.grown hg6 (fun e => by injection e with e; omega)).alloc _, (HF5.out.grown hg6 (fun e => by injection e with e; omega)).alloc _, (HG5.out.grown hg6 (fun e => by injection e with e; omega)).alloc _, Box4.new _ _ _ _ _ _, (HO5.out.grown hg6 (fun q e e2 => by injection e with e; have := (HO5.out.lt q e2).1; omega)).below ((Below.refl _ _).alloc (Nat.le_refl _) _), (ho6.low (by omega)).below ((Below.refl _ _).alloc (Nat.le_refl _) _)⟩
  have hcf : c < w6.heap.size := by omega
  have hgf : gb < w6.heap.size := by omega
  clear hw7 hc6 hg6 hb6 ho6 hs6 HC5 HB5 HR5 HF5 HG5 HO5 hgg hg5l
  go_upto_region 4 with fail
  rw [HE7.out]
  clear HE7
  generalize w6.heap.size = fb at *
  go_wp2_with fail
  refine (l1Below_any c c a len cap zs 4 _ HD7.out.1 hl (by omega) (by omega)).mono ?_
  rintro e w8 ⟨q, rfl, hq0, hq1, hc8, hg8⟩
  have HD8 : Hid (DF w w8 c a len cap zs gb fb s en A n cp zg k f fs g m cb ys) := HD7.out.call hc8 hg8 hcw hcg hcf
  clear hc8 hg8 HD7
  go_upto_block 0 with fail
  go_cut [] from 13 (fun W => ∃ (k f fs : Int) (g m cb : Nat) (ys : List Int), m ≤ 1001 ∧ Hid (DF w W c a len cap zs gb fb s en A n cp zg k f fs g m cb ys))
  case first =>
    by_cases q0 : q = 0
    · subst q0
      go_wp2_with fail
      refine (l1Int_any c c a len cap zs w8.heap.size 2 2 [1, 9] _ (HD8.out.new _).1 hl (heap_alloc_new w8 _) (by have := HD8.out.1.lt; omega) rfl (by omega) (by omega)).mono ?_
      rintro e w9 ⟨v, rfl, hv, hc9, hg9⟩
      have HD9 : Hid (DF w w9 c a len cap zs gb fb s en A n cp zg k f fs g m cb ys) := (HD8.out.new (.cells #[.int .i64 1, .int .i64 9] 3)).call hc9 hg9 hcw hcg hcf
      have HDa : Hid (DF w (w9.setCell ⟨fb, 0, none⟩ (.int .i64 v)) c a len cap zs gb fb s en A n cp zg v f fs g m cb ys) := HD9.out.put hcw hcf (by omega) (box4_set0 HD9.out.2.2.2.2.2.1 _) HD9.out.2.2.2.2.2.2.2
      obtain ⟨wA, hwA⟩ : ∃ wA, w9.setCell ⟨fb, 0, none⟩ (.int .i64 v) = wA := ⟨_, rfl⟩
      have HEA : Hid (w9.setCell ⟨fb, 0, none⟩ (.int .i64 v) = wA) := hwA
      rw [hwA] at HDa
      clear hv hc9 hg9 hwA
      obtain ⟨c0, c1, c2, c3⟩ := HD9.out.2.2.2.2.2.1.cells
      have f0 := HD9.out.2.2.2.2.2.1.frozen 0
      have f1 := HD9.out.2.2.2.2.2.1.frozen 1
      have f2 := HD9.out.2.2.2.2.2.1.frozen 2
      have f3 := HD9.out.2.2.2.2.2.1.frozen 3
      go_upto_region 8 with fail
      rw [HEA.out]
      clear HEA HD9
      clear c0 c1 c2 c3 f0 f1 f2 f3
      obtain ⟨e0, e1, e2⟩ := HDa.out.2.2.2.2.1.cells
      by_cases hsp : 0 < s
      · have hsd : decide (0 < s) = true := by simpa using hsp
        go_wp2_with fail
        refine (l1Once_any c c a len cap zs 5 _ HDa.out.1 hl (by omega) (by omega)).mono ?_
        rintro e wB ⟨b, rfl, hcB, hgB⟩
        have HDb : Hid (DF w wB c a len cap zs gb fb s en A n cp zg v f fs g m cb ys) := HDa.out.call hcB hgB hcw hcg hcf
        clear hcB hgB HDa e0 e1 e2
        cases b with
        | true =>
          go_wp2_with fail
          refine (l1Some_b c c a len cap zs _ HDb.out.1 hl).mono ?_
          rintro e z1 ⟨g1, m1, cb1, ys1, rfl, hm1, hgg1, ho1, hc1, hg1⟩
          have HZ1 : Hid (DF w z1 c a len cap zs gb fb s en A n cp zg v f fs g m cb ys) := HDb.out.call hc1 hg1 hcw hcg hcf
          have HZ2 : Hid (DF w (z1.setCell ⟨fb, 3, none⟩ (.slice (some ⟨g1, 0, none⟩) m1 cb1)) c a len cap zs gb fb s en A n cp zg v f fs g1 m1 cb1 ys1) := HZ1.out.put hcw hcf (by omega) (box4_set3 HZ1.out.2.2.2.2.2.1 _) (ho1.low (by have := HDb.out.1.lt; omega))
          clear hgg1 ho1 hc1 hg1
          try clear c0 c1 c2 c3 f0 f1 f2 f3
          obtain ⟨c0, c1, c2, c3⟩ := HZ1.out.2.2.2.2.2.1.cells
          have f0 := HZ1.out.2.2.2.2.2.1.frozen 0
          have f1 := HZ1.out.2.2.2.2.2.1.frozen 1
          have f2 := HZ1.out.2.2.2.2.2.1.frozen 2
          have f3 := HZ1.out.2.2.2.2.2.1.frozen 3
          go_wp2_with fail
          go_meet
          exact ⟨_, _, _, _, _, _, _, by omega, HZ2⟩
        | false =>
          have HDc : Hid (DF w (wB.setCell ⟨fb, 0, none⟩ (.int .i64 9)) c a len cap zs gb fb s en A n cp zg 9 f fs g m cb ys) := HDb.out.put hcw hcf (by omega) (box4_set0 HDb.out.2.2.2.2.2.1 _) HDb.out.2.2.2.2.2.2.2
          have HDd : Hid (DF w ((wB.setCell ⟨fb, 0, none⟩ (.int .i64 9)).setCell ⟨fb, 2, none⟩ (.int .i64 s)) c a len cap zs gb fb s en A n cp zg 9 f s g m cb ys) := HDc.out.put hcw hcf (by omega) (box4_set2 HDc.out.2.2.2.2.2.1 _) HDc.out.2.2.2.2.2.2.2
          obtain ⟨wD, hwD⟩ : ∃ wD, (wB.setCell ⟨fb, 0, none⟩ (.int .i64 9)).setCell ⟨fb, 2, none⟩ (.int .i64 s) = wD := ⟨_, rfl⟩
          have HED : Hid ((wB.setCell ⟨fb, 0, none⟩ (.int .i64 9)).setCell ⟨fb, 2, none⟩ (.int .i64 s) = wD) := hwD
          rw [hwD] at HDd
          clear hwD HDc
          obtain ⟨c0, c1, c2, c3⟩ := HDb.out.2.2.2.2.2.1.cells
          have f0 := HDb.out.2.2.2.2.2.1.frozen 0
          have f1 := HDb.out.2.2.2.2.2.1.frozen 1
          have f2 := HDb.out.2.2.2.2.2.1.frozen 2
          have f3 := HDb.out.2.2.2.2.2.1.frozen 3
          obtain ⟨e0, e1, e2⟩ := HDb.out.2.2.2.2.1.cells
          have hnef : ¬ gb = fb := by omega
          have hnef2 : ¬ fb = gb := by omega
          go_upto_region 11 with fail
          rw [HED.out]
          clear HED HDb e0 e1 e2 c0 c1 c2 c3 f0 f1 f2 f3
          go_wp2_with fail
          refine (l1Some_b c c a len cap zs _ HDd.out.1 hl).mono ?_
          rintro e z1 ⟨g1, m1, cb1, ys1, rfl, hm1, hgg1, ho1, hc1, hg1⟩
          have HZ1 : Hid (DF w z1 c a len cap zs gb fb s en A n cp zg 9 f s g m cb ys) := HDd.out.call hc1 hg1 hcw hcg hcf
          have HZ2 : Hid (DF w (z1.setCell ⟨fb, 3, none⟩ (.slice (some ⟨g1, 0, none⟩) m1 cb1)) c a len cap zs gb fb s en A n cp zg 9 f s g1 m1 cb1 ys1) := HZ1.out.put hcw hcf (by omega) (box4_set3 HZ1.out.2.2.2.2.2.1 _) (ho1.low (by have := HDd.out.1.lt; omega))
          clear hgg1 ho1 hc1 hg1
          try clear c0 c1 c2 c3 f0 f1 f2 f3
          obtain ⟨c0, c1, c2, c3⟩ := HZ1.out.2.2.2.2.2.1.cells
          have f0 := HZ1.out.2.2.2.2.2.1.frozen 0
          have f1 := HZ1.out.2.2.2.2.2.1.frozen 1
          have f2 := HZ1.out.2.2.2.2.2.1.frozen 2
          have f3 := HZ1.out.2.2.2.2.2.1.frozen 3
          go_wp2_with fail
          go_meet
          exact ⟨_, _, _, _, _, _, _, by omega, HZ2⟩
      · have hsd : decide (0 < s) = false := by simpa using hsp
        clear e1 e2
        have e00 := e0
        go_wp2_with fail
        refine (l1Some_b c c a len cap zs _ HDa.out.1 hl).mono ?_
        rintro e z1 ⟨g1, m1, cb1, ys1, rfl, hm1, hgg1, ho1, hc1, hg1⟩
        have HZ1 : Hid (DF w z1 c a len cap zs gb fb s en A n cp zg v f fs g m cb ys) := HDa.out.call hc1 hg1 hcw hcg hcf
        have HZ2 : Hid (DF w (z1.setCell ⟨fb, 3, none⟩ (.slice (some ⟨g1, 0, none⟩) m1 cb1)) c a len cap zs gb fb s en A n cp zg v f fs g1 m1 cb1 ys1) := HZ1.out.put hcw hcf (by omega) (box4_set3 HZ1.out.2.2.2.2.2.1 _) (ho1.low (by have := HDa.out.1.lt; omega))
        clear hgg1 ho1 hc1 hg1
        try clear c0 c1 c2 c3 f0 f1 f2 f3
        obtain ⟨c0, c1, c2, c3⟩ := HZ1.out.2.2.2.2.2.1.cells
        have f0 := HZ1.out.2.2.2.2.2.1.frozen 0
        have f1 := HZ1.out.2.2.2.2.2.1.frozen 1
        have f2 := HZ1.out.2.2.2.2.2.1.frozen 2
        have f3 := HZ1.out.2.2.2.2.2.1.frozen 3
        go_wp2_with fail
        go_meet
        exact ⟨_, _, _, _, _, _, _, by omega, HZ2⟩
    have b0 : (q == 0) = false := by simpa using q0
    by_cases q1 : q = 1
    · subst q1
      go_wp2_with fail
      refine (l1Int_any c c a len cap zs w8.heap.size 2 2 [1, 9] _ (HD8.out.new _).1 hl (heap_alloc_new w8 _) (by have := HD8.out.1.lt; omega) rfl (by omega) (by omega)).mono ?_
      rintro e w9 ⟨v, rfl, hv, hc9, hg9⟩
      have HD9 : Hid (DF w w9 c a len cap zs gb fb s en A n cp zg k f fs g m cb ys) := (HD8.out.new (.cells #[.int .i64 1, .int .i64 9] 3)).call hc9 hg9 hcw hcg hcf
      have HDa : Hid (DF w (w9.setCell ⟨fb, 0, none⟩ (.int .i64 v)) c a len cap zs gb fb s en A n cp zg v f fs g m cb ys) := HD9.out.put hcw hcf (by omega) (box4_set0 HD9.out.2.2.2.2.2.1 _) HD9.out.2.2.2.2.2.2.2
      obtain ⟨wA, hwA⟩ : ∃ wA, w9.setCell ⟨fb, 0, none⟩ (.int .i64 v) = wA := ⟨_, rfl⟩
      have HEA : Hid (w9.setCell ⟨fb, 0, none⟩ (.int .i64 v) = wA) := hwA
      rw [hwA] at HDa
      clear hv hc9 hg9 hwA
      obtain ⟨c0, c1, c2, c3⟩ := HD9.out.2.2.2.2.2.1.cells
      have f0 := HD9.out.2.2.2.2.2.1.frozen 0
      have f1 := HD9.out.2.2.2.2.2.1.frozen 1
      have f2 := HD9.out.2.2.2.2.2.1.frozen 2
      have f3 := HD9.out.2.2.2.2.2.1.frozen 3
      go_upto_region 8 with fail
      rw [HEA.out]
      clear HEA HD9
      clear c0 c1 c2 c3 f0 f1 f2 f3
      obtain ⟨e0, e1, e2⟩ := HDa.out.2.2.2.2.1.cells
      by_cases hsp : 0 < s
      · have hsd : decide (0 < s) = true := by simpa using hsp
        go_wp2_with fail
        refine (l1Once_any c c a len cap zs 5 _ HDa.out.1 hl (by omega) (by omega)).mono ?_
        rintro e wB ⟨b, rfl, hcB, hgB⟩
        have HDb : Hid (DF w wB c a len cap zs gb fb s en A n cp zg v f fs g m cb ys) := HDa.out.call hcB hgB hcw hcg hcf
        clear hcB hgB HDa e0 e1 e2
        cases b with
        | true =>
          go_wp2_with fail
          refine (l1Some_b c c a len cap zs _ HDb.out.1 hl).mono ?_
          rintro e z1 ⟨g1, m1, cb1, ys1, rfl, hm1, hgg1, ho1, hc1, hg1⟩
          have HZ1 : Hid (DF w z1 c a len cap zs gb fb s en A n cp zg v f fs g m cb ys) := HDb.out.call hc1 hg1 hcw hcg hcf
          have HZ2 : Hid (DF w (z1.setCell ⟨fb, 3, none⟩ (.slice (some ⟨g1, 0, none⟩) m1 cb1)) c a len cap zs gb fb s en A n cp zg v f fs g1 m1 cb1 ys1) := HZ1.out.put hcw hcf (by omega) (box4_set3 HZ1.out.2.2.2.2.2.1 _) (ho1.low (by have := HDb.out.1.lt; omega))
          clear hgg1 ho1 hc1 hg1
          try clear c0 c1 c2 c3 f0 f1 f2 f3
          obtain ⟨c0, c1, c2, c3⟩ := HZ1.out.2.2.2.2.2.1.cells
          have f0 := HZ1.out.2.2.2.2.2.1.frozen 0
          have f1 := HZ1.out.2.2.2.2.2.1.frozen 1
          have f2 := HZ1.out.2.2.2.2.2.1.frozen 2
          have f3 := HZ1.out.2.2.2.2.2.1.frozen 3
          go_wp2_with fail
          go_meet
          exact ⟨_, _, _, _, _, _, _, by omega, HZ2⟩
        | false =>
          have HDc : Hid (DF w (wB.setCell ⟨fb, 0, none⟩ (.int .i64 9)) c a len cap zs gb fb s en A n cp zg 9 f fs g m cb ys) := HDb.out.put hcw hcf (by omega) (box4_set0 HDb.out.2.2.2.2.2.1 _) HDb.out.2.2.2.2.2.2.2
          have HDd : Hid (DF w ((wB.setCell ⟨fb, 0, none⟩ (.int .i64 9)).setCell ⟨fb, 2, none⟩ (.int .i64 s)) c a len cap zs gb fb s en A n cp zg 9 f s g m cb ys) := HDc.out.put hcw hcf (by omega) (box4_set2 HDc.out.2.2.2.2.2.1 _) HDc.out.2.2.2.2.2.2.2
          obtain ⟨wD, hwD⟩ : ∃ wD, (wB.setCell ⟨fb, 0, none⟩ (.int .i64 9)).setCell ⟨fb, 2, none⟩ (.int .i64 s) = wD := ⟨_, rfl⟩
          have HED : Hid ((wB.setCell ⟨fb, 0, none⟩ (.int .i64 9)).setCell ⟨fb, 2, none⟩ (.int .i64 s) = wD) := hwD
          rw [hwD] at HDd
          clear hwD HDc
          obtain ⟨c0, c1, c2, c3⟩ := HDb.out.2.2.2.2.2.1.cells
          have f0 := HDb.out.2.2.2.2.2.1.frozen 0
          have f1 := HDb.out.2.2.2.2.2.1.frozen 1
          have f2 := HDb.out.2.2.2.2.2.1.frozen 2
          have f3 := HDb.out.2.2.2.2.2.1.frozen 3
          obtain ⟨e0, e1, e2⟩ := HDb.out.2.2.2.2.1.cells
          have hnef : ¬ gb = fb := by omega
          have hnef2 : ¬ fb = gb := by omega
          go_upto_region 11 with fail
          rw [HED.out]
          clear HED HDb e0 e1 e2 c0 c1 c2 c3 f0 f1 f2 f3
          go_wp2_with fail
          refine (l1Some_b c c a len cap zs _ HDd.out.1 hl).mono ?_
          rintro e z1 ⟨g1, m1, cb1, ys1, rfl, hm1, hgg1, ho1, hc1, hg1⟩
          have HZ1 : Hid (DF w z1 c a len cap zs gb fb s en A n cp zg 9 f s g m cb ys) := HDd.out.call hc1 hg1 hcw hcg hcf
          have HZ2 : Hid (DF w (z1.setCell ⟨fb, 3, none⟩ (.slice (some ⟨g1, 0, none⟩) m1 cb1)) c a len cap zs gb fb s en A n cp zg 9 f s g1 m1 cb1 ys1) := HZ1.out.put hcw hcf (by omega) (box4_set3 HZ1.out.2.2.2.2.2.1 _) (ho1.low (by have := HDd.out.1.lt; omega))
          clear hgg1 ho1 hc1 hg1
          try clear c0 c1 c2 c3 f0 f1 f2 f3
          obtain ⟨c0, c1, c2, c3⟩ := HZ1.out.2.2.2.2.2.1.cells
          have f0 := HZ1.out.2.2.2.2.2.1.frozen 0
          have f1 := HZ1.out.2.2.2.2.2.1.frozen 1
          have f2 := HZ1.out.2.2.2.2.2.1.frozen 2
          have f3 := HZ1.out.2.2.2.2.2.1.frozen 3
          go_wp2_with fail
          go_meet
          exact ⟨_, _, _, _, _, _, _, by omega, HZ2⟩
      · have hsd : decide (0 < s) = false := by simpa using hsp
        clear e1 e2
        have e00 := e0
        go_wp2_with fail
        refine (l1Some_b c c a len cap zs _ HDa.out.1 hl).mono ?_
        rintro e z1 ⟨g1, m1, cb1, ys1, rfl, hm1, hgg1, ho1, hc1, hg1⟩
        have HZ1 : Hid (DF w z1 c a len cap zs gb fb s en A n cp zg v f fs g m cb ys) := HDa.out.call hc1 hg1 hcw hcg hcf
        have HZ2 : Hid (DF w (z1.setCell ⟨fb, 3, none⟩ (.slice (some ⟨g1, 0, none⟩) m1 cb1)) c a len cap zs gb fb s en A n cp zg v f fs g1 m1 cb1 ys1) := HZ1.out.put hcw hcf (by omega) (box4_set3 HZ1.out.2.2.2.2.2.1 _) (ho1.low (by have := HDa.out.1.lt; omega))
        clear hgg1 ho1 hc1 hg1
        try clear c0 c1 c2 c3 f0 f1 f2 f3
        obtain ⟨c0, c1, c2, c3⟩ := HZ1.out.2.2.2.2.2.1.cells
        have f0 := HZ1.out.2.2.2.2.2.1.frozen 0
        have f1 := HZ1.out.2.2.2.2.2.1.frozen 1
        have f2 := HZ1.out.2.2.2.2.2.1.frozen 2
        have f3 := HZ1.out.2.2.2.2.2.1.frozen 3
        go_wp2_with fail
        go_meet
        exact ⟨_, _, _, _, _, _, _, by omega, HZ2⟩
    have b1 : (q == 1) = false := by simpa using q1
    by_cases q2 : q = 2
    · subst q2
      go_wp2_with fail
      refine (l1Int_any c c a len cap zs w8.heap.size 4 4 [4, 5, 12, 0] _ (HD8.out.new _).1 hl (heap_alloc_new w8 _) (by have := HD8.out.1.lt; omega) rfl (by omega) (by omega)).mono ?_
      rintro e w9 ⟨v, rfl, hv, hc9, hg9⟩
      have HD9 : Hid (DF w w9 c a len cap zs gb fb s en A n cp zg k f fs g m cb ys) := (HD8.out.new (.cells #[.int .i64 4, .int .i64 5, .int .i64 12, .int .i64 0] 3)).call hc9 hg9 hcw hcg hcf
      clear hv hc9 hg9
      go_wp2_with fail
      refine (l1Some_b c c a len cap zs _ HD9.out.1 hl).mono ?_
      rintro e z1 ⟨g1, m1, cb1, ys1, rfl, hm1, hgg1, ho1, hc1, hg1⟩
      have HZ1 : Hid (DF w z1 c a len cap zs gb fb s en A n cp zg k f fs g m cb ys) := HD9.out.call hc1 hg1 hcw hcg hcf
      have HO1 : Hid (Owns z1 (c + 1) (some ⟨g1, 0, none⟩) m1 cb1 ys1) := ho1.low (by have := HD9.out.1.lt; omega)
      clear hgg1 ho1 hc1 hg1 HD9
      go_wp2_with fail
      refine (l1Below_any c c a len cap zs 4 _ HZ1.out.1 hl (by omega) (by omega)).mono ?_
      rintro e z2 ⟨x, rfl, hx0, hx1, hc2, hg2⟩
      have HZ2 : Hid (DF w z2 c a len cap zs gb fb s en A n cp zg k f fs g m cb ys) := HZ1.out.call hc2 hg2 hcw hcg hcf
      have HO2 : Hid (Owns z2 (c + 1) (some ⟨g1, 0, none⟩) m1 cb1 ys1) := HO1.out.grown hg2 (fun q e e2 => by injection e with e; have := (HO1.out.lt q e2).1; omega)
      obtain ⟨M, hM⟩ : ∃ M, padN x = M := ⟨_, rfl⟩
      have HM : Hid (padN x = M) := hM
      have hMb : M ≤ 255 := by have := padN_le x; omega
      obtain ⟨T, hT⟩ : ∃ T, 1 + m1 + M = T := ⟨_, rfl⟩
      have HT : Hid (1 + m1 + M = T) := hT
      have hTb : T ≤ 1001 := by omega
      have hT0 : 0 < T := by omega
      clear hc2 hg2 HZ1 HO1 hM hT
      go_wp2_with fail
      refine (specPad_any g1 0 m1 cb1 x M T ys1 _ HO2.out.seg (HO2.out.lt g1 rfl).2 (by omega) HM.out HT.out).mono ?_
      rintro e z3 ⟨pa, pc, rfl, ho3, hb3⟩
      obtain ⟨g3, rfl⟩ : ∃ g3, pa = some ⟨g3, 0, none⟩ := by
        rcases ho3.1.2 with ⟨he, h0⟩ | ⟨g', cap', cur, he, _⟩
        · omega
        · injection he with e1 _ _
          exact ⟨_, e1⟩
      have hd3 := HZ2.out
      have hq3 : DF w z3 c a len cap zs gb fb s en A n cp zg k f fs g m cb ys := ⟨hd3.1.kept (gbelow hb3 none) (by simp), hd3.2.1.trans (hb3.mono hd3.2.1.size), hd3.2.2.1.stays hb3, hd3.2.2.2.1.stays hb3, hd3.2.2.2.2.1.stays hb3, hd3.2.2.2.2.2.1.stays hb3, hd3.2.2.2.2.2.2.1.below hb3, hd3.2.2.2.2.2.2.2.below hb3⟩
      have HZ3 : Hid (DF w z3 c a len cap zs gb fb s en A n cp zg k f fs g m cb ys) := hq3
      have HO3 : Hid (Owns z3 (c + 1) (some ⟨g3, 0, none⟩) T pc (padB ys1 M)) := ho3.low (by have := HZ2.out.1.lt; omega)
      have HY0 : Hid (DF w (z3.setCell ⟨fb, 0, none⟩ (.int .i64 1)) c a len cap zs gb fb s en A n cp zg 1 f fs g m cb ys) := HZ3.out.put hcw hcf (by omega) (box4_set0 HZ3.out.2.2.2.2.2.1 _) HZ3.out.2.2.2.2.2.2.2
      have HY1 : Hid (DF w ((z3.setCell ⟨fb, 0, none⟩ (.int .i64 1)).setCell ⟨fb, 1, none⟩ (.int .i64 v)) c a len cap zs gb fb s en A n cp zg 1 v fs g m cb ys) := HY0.out.put hcw hcf (by omega) (box4_set1 HY0.out.2.2.2.2.2.1 _) HY0.out.2.2.2.2.2.2.2
      have HY2 : Hid (DF w (((z3.setCell ⟨fb, 0, none⟩ (.int .i64 1)).setCell ⟨fb, 1, none⟩ (.int .i64 v)).setCell ⟨fb, 2, none⟩ (.int .i64 3)) c a len cap zs gb fb s en A n cp zg 1 v 3 g m cb ys) := HY1.out.put hcw hcf (by omega) (box4_set2 HY1.out.2.2.2.2.2.1 _) HY1.out.2.2.2.2.2.2.2
      have HOy : Hid (Owns (((z3.setCell ⟨fb, 0, none⟩ (.int .i64 1)).setCell ⟨fb, 1, none⟩ (.int .i64 v)).setCell ⟨fb, 2, none⟩ (.int .i64 3)) (c + 1) (some ⟨g3, 0, none⟩) T pc (padB ys1 M)) := by
        have hne := HO3.out.other (show z3.heap[fb]? = _ from HZ3.out.2.2.2.2.2.1) (by decide)
        exact owns_set (owns_set (owns_set HO3.out hne) hne) hne
      have HY3 : Hid (DF w ((((z3.setCell ⟨fb, 0, none⟩ (.int .i64 1)).setCell ⟨fb, 1, none⟩ (.int .i64 v)).setCell ⟨fb, 2, none⟩ (.int .i64 3)).setCell ⟨fb, 3, none⟩ (.slice (some ⟨g3, 0, none⟩) T pc)) c a len cap zs gb fb s en A n cp zg 1 v 3 g3 T pc (padB ys1 M)) := HY2.out.put hcw hcf (by omega) (box4_set3 HY2.out.2.2.2.2.2.1 _) HOy.out
      obtain ⟨c0, c1, c2, c3⟩ := HZ3.out.2.2.2.2.2.1.cells
      have f0 := HZ3.out.2.2.2.2.2.1.frozen 0
      have f1 := HZ3.out.2.2.2.2.2.1.frozen 1
      have f2 := HZ3.out.2.2.2.2.2.1.frozen 2
      have f3 := HZ3.out.2.2.2.2.2.1.frozen 3
      clear hd3 hq3 ho3 hb3 HZ2 HO2 HM HT HZ3 HO3 HY0 HY1 HY2 HOy
      go_wp2_with fail
      go_meet
      exact ⟨_, _, _, _, _, _, _, by omega, HY3⟩
    have b2 : (q == 2) = false := by simpa using q2
    go_wp2_with fail
    go_meet
    exact ⟨_, _, _, _, _, _, _, hm, HD8⟩
  case rest =>
  obtain ⟨k', f', fs', g', m', cb', ys', hm', HD⟩ := hcut
  clear HD8
  obtain ⟨w9, hw9⟩ : ∃ w9, wc = w9 := ⟨_, rfl⟩
  rw [hw9] at HD ⊢
  clear hw9
  have HP : Hid (∀ (W : World), (Box3 W gb 30 (.int .i64 s) (.bool en) (.slice A n cp) ∧ Box4 W fb 33 (.int .i64 k') (.int .i64 f') (.int .i64 fs') (.slice (some ⟨g', 0, none⟩) m' cb')) → (fun W => W.cell? ⟨gb, 0, none⟩ = some (.int .i64 s) ∧ W.cell? ⟨gb, 1, none⟩ = some (.bool en) ∧ W.cell? ⟨gb, 2, none⟩ = some (.slice A n cp) ∧ W.cell? ⟨fb, 0, none⟩ = some (.int .i64 k') ∧ W.cell? ⟨fb, 1, none⟩ = some (.int .i64 f') ∧ W.cell? ⟨fb, 2, none⟩ = some (.int .i64 fs') ∧ W.cell? ⟨fb, 3, none⟩ = some (.slice (some ⟨g', 0, none⟩) m' cb')) W) := fun W h => by
    obtain ⟨e0, e1, e2⟩ := h.1.cells
    obtain ⟨e3, e4, e5, e6⟩ := h.2.cells
    exact ⟨e0, e1, e2, e3, e4, e5, e6⟩
  have hD := HD.out
  have HB0 : Hid (Box3 w9.drew gb 30 (.int .i64 s) (.bool en) (.slice A n cp) ∧ Box4 w9.drew fb 33 (.int .i64 k') (.int .i64 f') (.int .i64 fs') (.slice (some ⟨g', 0, none⟩) m' cb')) := ⟨hD.2.2.2.2.1, hD.2.2.2.2.2.1⟩
  have r1 : gb ≠ w.heap.size := by omega
  have r2 : fb ≠ w.heap.size := by omega
  have r3 : gb ≠ w.heap.size + 1 := by omega
  have r4 : fb ≠ w.heap.size + 1 := by omega
  have HB1 : Hid (Box3 (((w9.drew.setCell ⟨w.heap.size, 0, none⟩ (.int .i64 s)).setCell ⟨w.heap.size, 1, none⟩ (.bool en)).setCell ⟨w.heap.size, 2, none⟩ (.slice A n cp)) gb 30 (.int .i64 s) (.bool en) (.slice A n cp) ∧ Box4 (((w9.drew.setCell ⟨w.heap.size, 0, none⟩ (.int .i64 s)).setCell ⟨w.heap.size, 1, none⟩ (.bool en)).setCell ⟨w.heap.size, 2, none⟩ (.slice A n cp)) fb 33 (.int .i64 k') (.int .i64 f') (.int .i64 fs') (.slice (some ⟨g', 0, none⟩) m' cb')) := ⟨box3_other (box3_other (box3_other HB0.out.1 r1) r1) r1, box4_other (box4_other (box4_other HB0.out.2 r2) r2) r2⟩
  have HB2 : Hid (Box3 (((((((w9.drew.setCell ⟨w.heap.size, 0, none⟩ (.int .i64 s)).setCell ⟨w.heap.size, 1, none⟩ (.bool en)).setCell ⟨w.heap.size, 2, none⟩ (.slice A n cp)).setCell ⟨w.heap.size + 1, 0, none⟩ (.int .i64 k')).setCell ⟨w.heap.size + 1, 1, none⟩ (.int .i64 f')).setCell ⟨w.heap.size + 1, 2, none⟩ (.int .i64 fs')).setCell ⟨w.heap.size + 1, 3, none⟩ (.slice (some ⟨g', 0, none⟩) m' cb')) gb 30 (.int .i64 s) (.bool en) (.slice A n cp) ∧ Box4 (((((((w9.drew.setCell ⟨w.heap.size, 0, none⟩ (.int .i64 s)).setCell ⟨w.heap.size, 1, none⟩ (.bool en)).setCell ⟨w.heap.size, 2, none⟩ (.slice A n cp)).setCell ⟨w.heap.size + 1, 0, none⟩ (.int .i64 k')).setCell ⟨w.heap.size + 1, 1, none⟩ (.int .i64 f')).setCell ⟨w.heap.size + 1, 2, none⟩ (.int .i64 fs')).setCell ⟨w.heap.size + 1, 3, none⟩ (.slice (some ⟨g', 0, none⟩) m' cb')) fb 33 (.int .i64 k') (.int .i64 f') (.int .i64 fs') (.slice (some ⟨g', 0, none⟩) m' cb')) := ⟨box3_other (box3_other (box3_other (box3_other HB1.out.1 r3) r3) r3) r3, box4_other (box4_other (box4_other (box4_other HB1.out.2 r4) r4) r4) r4⟩
  have HRg : Hid (Box3 w9.drew w.heap.size 30 (.int .i64 0) (.bool false) (.slice none 0 0)) := hD.2.2.1
  have HRf : Hid (Box4 (((w9.drew.setCell ⟨w.heap.size, 0, none⟩ (.int .i64 s)).setCell ⟨w.heap.size, 1, none⟩ (.bool en)).setCell ⟨w.heap.size, 2, none⟩ (.slice A n cp)) (w.heap.size + 1) 33 (.int .i64 0) (.int .i64 0) (.int .i64 0) (.slice none 0 0)) := box4_other (box4_other (box4_other (show Box4 w9.drew _ _ _ _ _ _ from hD.2.2.2.1) (by omega)) (by omega)) (by omega)
  have HRg2 : Hid (Box3 (((((((w9.drew.setCell ⟨w.heap.size, 0, none⟩ (.int .i64 s)).setCell ⟨w.heap.size, 1, none⟩ (.bool en)).setCell ⟨w.heap.size, 2, none⟩ (.slice A n cp)).setCell ⟨w.heap.size + 1, 0, none⟩ (.int .i64 k')).setCell ⟨w.heap.size + 1, 1, none⟩ (.int .i64 f')).setCell ⟨w.heap.size + 1, 2, none⟩ (.int .i64 fs')).setCell ⟨w.heap.size + 1, 3, none⟩ (.slice (some ⟨g', 0, none⟩) m' cb')) w.heap.size 30 (.int .i64 s) (.bool en) (.slice A n cp)) := box3_other (box3_other (box3_other (box3_other (box3_set2 (box3_set1 (box3_set0 HRg.out _) _) _) (by omega)) (by omega)) (by omega)) (by omega)
  have HRf2 : Hid (Box4 (((((((w9.drew.setCell ⟨w.heap.size, 0, none⟩ (.int .i64 s)).setCell ⟨w.heap.size, 1, none⟩ (.bool en)).setCell ⟨w.heap.size, 2, none⟩ (.slice A n cp)).setCell ⟨w.heap.size + 1, 0, none⟩ (.int .i64 k')).setCell ⟨w.heap.size + 1, 1, none⟩ (.int .i64 f')).setCell ⟨w.heap.size + 1, 2, none⟩ (.int .i64 fs')).setCell ⟨w.heap.size + 1, 3, none⟩ (.slice (some ⟨g', 0, none⟩) m' cb')) (w.heap.size + 1) 33 (.int .i64 k') (.int .i64 f') (.int .i64 fs') (.slice (some ⟨g', 0, none⟩) m' cb')) := box4_set3 (box4_set2 (box4_set1 (box4_set0 HRf.out _) _) _) _
  have hob : Owns w9.drew (c + 1) A n cp zg := hD.2.2.2.2.2.2.1
  have hoy : Owns w9.drew (c + 1) (some ⟨g', 0, none⟩) m' cb' ys' := hD.2.2.2.2.2.2.2
  have n1 : A.map (·.block) ≠ some w.heap.size := fun e => by have := (hob.lt _ e).1; omega
  have n2 : A.map (·.block) ≠ some (w.heap.size + 1) := fun e => by have := (hob.lt _ e).1; omega
  have n3 : (some (⟨g', 0, none⟩ : Addr)).map (·.block) ≠ some w.heap.size := fun e => by have := (hoy.lt _ e).1; omega
  have n4 : (some (⟨g', 0, none⟩ : Addr)).map (·.block) ≠ some (w.heap.size + 1) := fun e => by have := (hoy.lt _ e).1; omega
  have HSa : Hid (Seg (((((((w9.drew.setCell ⟨w.heap.size, 0, none⟩ (.int .i64 s)).setCell ⟨w.heap.size, 1, none⟩ (.bool en)).setCell ⟨w.heap.size, 2, none⟩ (.slice A n cp)).setCell ⟨w.heap.size + 1, 0, none⟩ (.int .i64 k')).setCell ⟨w.heap.size + 1, 1, none⟩ (.int .i64 f')).setCell ⟨w.heap.size + 1, 2, none⟩ (.int .i64 fs')).setCell ⟨w.heap.size + 1, 3, none⟩ (.slice (some ⟨g', 0, none⟩) m' cb')) A n zg) := (owns_set (owns_set (owns_set (owns_set (owns_set (owns_set (owns_set hob n1) n1) n1) n2) n2) n2) n2).seg
  have HSb : Hid (Seg (((((((w9.drew.setCell ⟨w.heap.size, 0, none⟩ (.int .i64 s)).setCell ⟨w.heap.size, 1, none⟩ (.bool en)).setCell ⟨w.heap.size, 2, none⟩ (.slice A n cp)).setCell ⟨w.heap.size + 1, 0, none⟩ (.int .i64 k')).setCell ⟨w.heap.size + 1, 1, none⟩ (.int .i64 f')).setCell ⟨w.heap.size + 1, 2, none⟩ (.int .i64 fs')).setCell ⟨w.heap.size + 1, 3, none⟩ (.slice (some ⟨g', 0, none⟩) m' cb')) (some ⟨g', 0, none⟩) m' ys') := (owns_set (owns_set (owns_set (owns_set (owns_set (owns_set (owns_set hoy n3) n3) n3) n4) n4) n4) n4).seg
  have hbd : Below w.heap.size w w9.drew := hD.2.1.drew
  have HBw : Hid (Below w.heap.size w (((((((w9.drew.setCell ⟨w.heap.size, 0, none⟩ (.int .i64 s)).setCell ⟨w.heap.size, 1, none⟩ (.bool en)).setCell ⟨w.heap.size, 2, none⟩ (.slice A n cp)).setCell ⟨w.heap.size + 1, 0, none⟩ (.int .i64 k')).setCell ⟨w.heap.size + 1, 1, none⟩ (.int .i64 f')).setCell ⟨w.heap.size + 1, 2, none⟩ (.int .i64 fs')).setCell ⟨w.heap.size + 1, 3, none⟩ (.slice (some ⟨g', 0, none⟩) m' cb'))) := ((((((hbd.setCell (p := ⟨w.heap.size, 0, none⟩) (Nat.le_refl _) _).setCell (p := ⟨w.heap.size, 1, none⟩) (Nat.le_refl _) _).setCell (p := ⟨w.heap.size, 2, none⟩) (Nat.le_refl _) _).setCell (p := ⟨w.heap.size + 1, 0, none⟩) (by show w.heap.size ≤ w.heap.size + 1; omega) _).setCell (p := ⟨w.heap.size + 1, 1, none⟩) (by show w.heap.size ≤ w.heap.size + 1; omega) _).setCell (p := ⟨w.heap.size + 1, 2, none⟩) (by show w.heap.size ≤ w.heap.size + 1; omega) _).setCell (p := ⟨w.heap.size + 1, 3, none⟩) (by show w.heap.size ≤ w.heap.size + 1; omega) _
  have HCb : Hid (m' ≤ cb') := by
    show _ ≤ _
    rcases hoy.1.2 with ⟨he, h0⟩ | ⟨g2, cap2, cur, he, _, _, hc, _⟩
    · cases he
    · injection he with _ _ h3
      omega
  clear hob hoy hbd hD HD n1 n2 n3 n4
  go_upto_region 14 with fail
  refine wp_region_noPanic ?_
  refine wp_region_held_drew (S := fun W => W.cell? ⟨gb, 0, none⟩ = some (.int .i64 s) ∧ W.cell? ⟨gb, 1, none⟩ = some (.bool en) ∧ W.cell? ⟨gb, 2, none⟩ = some (.slice A n cp) ∧ W.cell? ⟨fb, 0, none⟩ = some (.int .i64 k') ∧ W.cell? ⟨fb, 1, none⟩ = some (.int .i64 f') ∧ W.cell? ⟨fb, 2, none⟩ = some (.int .i64 fs') ∧ W.cell? ⟨fb, 3, none⟩ = some (.slice (some ⟨g', 0, none⟩) m' cb')) (by kernel_rfl) (HP.out _ HB0.out) (fun hHeld => ?_)
  generalize w9.drew = u9 at *
  refine wpAnyH_take (i := 0) (oi := ({ dst := some 48, op := Op.load 30 (Operand.tmp 5), type := 30, pos := "l08_gather.go:112", after := #[], guard := none } : Oper)) (v := ?tv0) rfl (by kernel_rfl) (by kernel_rfl) (by kernel_rfl) (fun _ _ _ h => h) (Or.inl ⟨by rfl, ?ty0⟩) (by assumption) ?tr0
  case ty0 => (intro w hSw; (try dsimp only at hSw); (try obtain ⟨s0, s1, s2, s3, s4, s5, s6⟩ := hSw); go_simp <;> with_reducible rfl)
  simp only [Act.put, List.setIfInBounds_toArray, List.set_cons_zero, List.set_cons_succ]
  refine wpAnyH_take (i := 1) (oi := ({ dst := some 49, op := Op.load 33 (Operand.tmp 6), type := 33, pos := "l08_gather.go:112", after := #[{ on := 2, ground := Ground.gcOnly Departure.lateStores }], guard := none } : Oper)) (v := ?tv1) rfl (by kernel_rfl) (by kernel_rfl) (by kernel_rfl) (fun _ _ _ h => h) (Or.inl ⟨by rfl, ?ty1⟩) (by assumption) ?tr1
  case ty1 => (intro w hSw; (try dsimp only at hSw); (try obtain ⟨s0, s1, s2, s3, s4, s5, s6⟩ := hSw); go_simp <;> with_reducible rfl)
  simp only [Act.put, List.setIfInBounds_toArray, List.set_cons_zero, List.set_cons_succ]
  refine wpAnyH_ready (rs := [2]) (by kernel_rfl) (by simp) ?_
  refine (AllReadyH.cons (o := ({ dst := none, op := Op.store 30 (Operand.tmp 2) (Operand.tmp 48), type := 0, pos := "l08_gather.go:112", after := #[{ on := 0, ground := Ground.data }, { on := 0, ground := Ground.phase }, { on := 1, ground := Ground.textOnly Departure.lateStores }], guard := none } : Oper)) rfl (fun K hK => ?_) AllReadyH.nil)
  obtain ⟨g0, g1, g2⟩ := HRg.out.cells
  have f0 := HRg.out.frozen 0
  have f1 := HRg.out.frozen 1
  have f2 := HRg.out.frozen 2
  go_simp
  refine hK.out _ _ (HP.out _ HB1.out) (fun hHeld => ?_)
  clear hK K
  try simp only [Act.put, List.setIfInBounds_toArray, List.set_cons_zero, List.set_cons_succ]
  clear g0 g1 g2 f0 f1 f2
  refine wpAnyH_ready (rs := [3]) (by kernel_rfl) (by simp) ?_
  refine (AllReadyH.cons (o := ({ dst := none, op := Op.store 33 (Operand.tmp 3) (Operand.tmp 49), type := 0, pos := "l08_gather.go:112", after := #[{ on := 1, ground := Ground.data }, { on := 2, ground := Ground.chain }, { on := 0, ground := Ground.phase }, { on := 1, ground := Ground.phase }, { on := 2, ground := Ground.phase }], guard := none } : Oper)) rfl (fun K hK => ?_) AllReadyH.nil)
  obtain ⟨g0, g1, g2, g3⟩ := HRf.out.cells
  have f0 := HRf.out.frozen 0
  have f1 := HRf.out.frozen 1
  have f2 := HRf.out.frozen 2
  have f3 := HRf.out.frozen 3
  go_simp
  refine hK.out _ _ (HP.out _ HB2.out) (fun hHeld => ?_)
  clear hK K
  try simp only [Act.put, List.setIfInBounds_toArray, List.set_cons_zero, List.set_cons_succ]
  clear g0 g1 g2 g3 f0 f1 f2 f3
  refine wpAnyH_done (by kernel_rfl) ?_ _
  refine NoPanic.normal ?_
  clear hHeld
  obtain ⟨h0, h1, h2⟩ := HRg2.out.cells
  obtain ⟨h3, h4, h5, h6⟩ := HRf2.out.cells
  go_wp2_with fail
  refine bodyPost_ret (v := .tuple #[.agg #[.int .i64 s, .bool en, .slice A n cp], .agg #[.int .i64 k', .int .i64 f', .int .i64 fs', .slice (some ⟨g', 0, none⟩) m' cb']]) (by simp [results, Tryd.f13, go_sem, h0, h1, h2, h3, h4, h5, h6]) rfl ?_
  exact ⟨_, _, _, _, _, _, _, _, _, _, _, _, _, rfl, hn, hm', HCb.out, HSa.out, HSb.out, HBw.out⟩
end Go.Proofs.YtckpacifimpkgadDoor
