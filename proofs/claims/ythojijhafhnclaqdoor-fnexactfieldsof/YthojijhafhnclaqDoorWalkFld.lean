/- The walk of FieldsOf's law. -/
import Derived.Test.YthojijhafhnclaqDoorReqTo
import Derived.Test.YthojijhafhnclaqDoorReqFldI
import Derived.Test.YthojijhafhnclaqDoorReqFldS
import Derived.Test.YthojijhafhnclaqDoorFldEq
import Derived.Test.YthojijhafhnclaqDoorFldHeld
import Derived.Test.YthojijhafhnclaqDoorBox3
namespace Go.Proofs.YthojijhafhnclaqDoor
open Go.RowKit
set_option linter.unusedVariables false

theorem OwnF.kept {w w' : World} {base n : Nat} {a : Option Addr} {cap : Nat} {fs : List Fld} {r : Option Nat} (h : OwnF w base (.slice a n cap) n fs) (hg : w.grownBy w' r) (hne : ∀ k, r = some k → a.map (·.block) = some k → False) : OwnF w' base (.slice a n cap) n fs := by
  refine ⟨⟨h.1.1, ?_⟩, h.2⟩
  rcases h.1.2 with ⟨e1, e2⟩ | ⟨g, cap', cur, e, h1, h2, h3⟩
  · exact .inl ⟨e1, e2⟩
  · injection e with e1 e2 e3
    subst e1
    refine .inr ⟨g, cap', cur, by rw [e3], h1, ?_, h3⟩
    have hlt : g < w.heap.size := (Array.getElem?_eq_some_iff.1 h2).1
    exact (hg.block g hlt (fun he => hne g he.symm rfl)).trans h2

theorem OwnF.ltm {w : World} {base n : Nat} {a : Option Addr} {cap : Nat} {fs : List Fld} (h : OwnF w base (.slice a n cap) n fs) (k : Nat) (hk : a.map (·.block) = some k) : base ≤ k ∧ k < w.heap.size := by
  cases a with
  | none => cases hk
  | some x => exact h.1.lt k hk

theorem OwnF.under {w w' : World} {base n : Nat} {v : Value} {fs : List Fld} (h : OwnF w base v n fs) (hb : Below w.heap.size w w') : OwnF w' base v n fs := ⟨own_below h.1 hb, h.2⟩

set_option maxRecDepth 10000 in
set_option maxHeartbeats 1600000 in
theorem fieldsOfLaw (op : Int) (s : ByteArray) (n : Int) (w : World) (hm : s.size ≤ maxLen) (_ : -9223372036854775808 ≤ op ∧ op ≤ 9223372036854775807) (_ : -9223372036854775808 ≤ n ∧ n ≤ 9223372036854775807) (ht : MethT w) (hst : TabT w) :
    Calls Tryd.prog 4 #[.agg #[.int .i64 op, .string s, .int .i64 n]] w fun e w' => e = .returned (.bool true) ∧ Below w.heap.size w w' := by
  have HSp : Hid (∀ W : World, Calls Tryd.prog 10 #[.agg #[.int .i64 op, .string s, .int .i64 n]] W fun e w' => ∃ A C, e = .returned (.slice A (fieldsR op s n).length C) ∧ OwnF w' W.heap.size (.slice A (fieldsR op s n).length C) (fieldsR op s n).length (fieldsR op s n) ∧ Below W.heap.size W w') := fun W => specFields_any op s n W (by unfold maxLen at hm; omega)
  have HIm : Hid (∀ W : World, Below w.heap.size w W → Calls Tryd.prog 11 #[.agg #[.int .i64 op, .string s, .int .i64 n]] W fun e w' => ∃ A C, e = .returned (.slice A (fieldsR op s n).length C) ∧ OwnF w' W.heap.size (.slice A (fieldsR op s n).length C) (fieldsR op s n).length (fieldsR op s n) ∧ Below W.heap.size W w') := fun W hW => implFields_any op s n W (by unfold maxLen at hm; omega) (ht.below hW) (hst.below hW)
  have HLen : Hid ((fieldsR op s n).length ≤ 4) := fieldsR_len op s n
  obtain ⟨g, hgg⟩ : ∃ g, fieldsR op s n = g := ⟨_, rfl⟩
  rw [hgg] at HSp HIm HLen
  clear hgg ht hst
  obtain ⟨gl, hgl⟩ : ∃ gl, g.length = gl := ⟨_, rfl⟩
  rw [hgl] at HSp HIm HLen
  clear hgl
  have hlen := HLen.out
  have HB0 : Hid (Below w.heap.size w (w.alloc (.cells #[.int .i64 op, .string s, .int .i64 n] 23))) := (Below.refl _ _).alloc (Nat.le_refl _) _
  have HX0 : Hid (Box3 (w.alloc (.cells #[.int .i64 op, .string s, .int .i64 n] 23)) w.heap.size 23 (.int .i64 op) (.string s) (.int .i64 n)) := Box3.new _ _ _ _ _
  go_enter Tryd.func4, Tryd.ntmps4
  go_wp2_with fail
  obtain ⟨x0, hx0⟩ : ∃ x0, w.alloc (.cells #[.int .i64 op, .string s, .int .i64 n] 23) = x0 := ⟨_, rfl⟩
  rw [hx0] at HB0 HX0 ⊢
  clear hx0
  refine (szReq_any op s n 1048576 x0 (by omega) (by omega) (by unfold maxLen at hm; omega)).mono ?_
  rintro e x1 ⟨rfl, hb1⟩
  have HX1 := (show Hid (Box3 x1 w.heap.size 23 (.int .i64 op) (.string s) (.int .i64 n)) from HX0.out.stays hb1)
  have HB1 : Hid (Below w.heap.size w x1) := HB0.out.trans (hb1.mono HB0.out.size)
  clear hb1 HX0 HB0
  by_cases hbig : (1048576 : Int) - (s.size : Int) < 0
  · rw [if_pos hbig]
    go_wp2_with fail
    go_ret
    exact ⟨rfl, HB1.out⟩
  rw [if_neg hbig]
  have hbg : (s.size : Int) ≤ 1048576 := by omega
  clear hm
  obtain ⟨c0, c1, c2⟩ := HX1.out.cells
  go_wp2_with fail
  refine (toReq_any op s n _).mono ?_
  rintro e x2 ⟨rfl, hb2⟩
  have HX2 := (show Hid (Box3 x2 w.heap.size 23 (.int .i64 op) (.string s) (.int .i64 n)) from HX1.out.stays hb2)
  have HB2 : Hid (Below w.heap.size w x2) := HB1.out.trans (hb2.mono HB1.out.size)
  clear hb2 HX1 HB1 c0 c1 c2
  go_wp2_with fail
  refine (HSp.out x2).mono ?_
  rintro e x3 ⟨wa, wc, rfl, ow, hb3⟩
  have HX3 := (show Hid (Box3 x3 w.heap.size 23 (.int .i64 op) (.string s) (.int .i64 n)) from HX2.out.stays hb3)
  have HB3 : Hid (Below w.heap.size w x3) := HB2.out.trans (hb3.mono HB2.out.size)
  have OW3 : Hid (OwnF x3 x2.heap.size (.slice wa gl wc) gl g) := ow
  clear hb3 HX2 HB2 ow
  obtain ⟨c0, c1, c2⟩ := HX3.out.cells
  go_wp2_with fail
  refine (toReq_any op s n _).mono ?_
  rintro e x4 ⟨rfl, hb4⟩
  have HX4 := (show Hid (Box3 x4 w.heap.size 23 (.int .i64 op) (.string s) (.int .i64 n)) from HX3.out.stays hb4)
  have HB4 : Hid (Below w.heap.size w x4) := HB3.out.trans (hb4.mono HB3.out.size)
  have OW4 : Hid (OwnF x4 x2.heap.size (.slice wa gl wc) gl g) := OW3.out.under hb4
  clear hb4 HX3 HB3 OW3 c0 c1 c2
  go_wp2_with fail
  refine (HIm.out x4 HB4.out).mono ?_
  rintro e x5 ⟨ga, gc, rfl, og, hb5⟩
  have HX5 := (show Hid (Box3 x5 w.heap.size 23 (.int .i64 op) (.string s) (.int .i64 n)) from HX4.out.stays hb5)
  have HB5 : Hid (Below w.heap.size w x5) := HB4.out.trans (hb5.mono HB4.out.size)
  have OW5 : Hid (OwnF x5 x2.heap.size (.slice wa gl wc) gl g) := OW4.out.under hb5
  have OG5 : Hid (OwnF x5 x4.heap.size (.slice ga gl gc) gl g) := og
  have hwlt : Hid (∀ k, wa.map (·.block) = some k → k < x4.heap.size) := fun k hk => (OW4.out.ltm k hk).2
  have hglt : Hid (∀ k, ga.map (·.block) = some k → x4.heap.size ≤ k) := fun k hk => (OG5.out.ltm k hk).1
  have hwx : w.heap.size < x4.heap.size := HX4.out.lt
  have hwb : w.heap.size ≤ x4.heap.size := HB4.out.size
  clear hb5 HX4 HB4 OW4 og
  go_wp2_with fail
  refine (eqFieldS_same _ _ _ _ _ _ _ OG5.out.flds OW5.out.flds (by omega)).mono ?_
  rintro e x6 ⟨rfl, hb6⟩
  have HX6 := (show Hid (Box3 x6 w.heap.size 23 (.int .i64 op) (.string s) (.int .i64 n)) from HX5.out.stays hb6)
  have HB6 : Hid (Below w.heap.size w x6) := HB5.out.trans (hb6.mono HB5.out.size)
  have OW6 : Hid (OwnF x6 x2.heap.size (.slice wa gl wc) gl g) := OW5.out.under hb6
  have OG6 : Hid (OwnF x6 x4.heap.size (.slice ga gl gc) gl g) := OG5.out.under hb6
  clear hb6 HX5 HB5 OW5 OG5
  go_wp2_with fail
  refine (markFS_any _ _ _ _ 1 _ _ OG6.out (by omega) (by omega)).mono ?_
  rintro e x7 ⟨rfl, og, on⟩
  have OG7 : Hid (OwnF x7 x4.heap.size (.slice ga gl gc) gl (marksF 1 gl)) := og
  have OW7 : Hid (OwnF x7 x2.heap.size (.slice wa gl wc) gl g) := OW6.out.kept on (fun k hk h => by have h1 := hwlt.out k h; have h2 := hglt.out k hk; omega)
  have HB7 : Hid (Below w.heap.size w x7) := HB6.out.grown on HB6.out.size (fun k hk => by have h2 := hglt.out k hk; omega)
  have HX7 := (show Hid (Box3 x7 w.heap.size 23 (.int .i64 op) (.string s) (.int .i64 n)) from HX6.out.grown on (fun hk => by have h2 := hglt.out _ hk; have h3 := hwx; omega))
  clear og on OG6 OW6 HB6 HX6
  obtain ⟨q, hq⟩ : ∃ q, ((1 + 2 * gl : Nat) : Int) = q := ⟨_, rfl⟩
  have HQ : Hid (((1 + 2 * gl : Nat) : Int) = q) := hq
  have hqp : 0 ≤ q := by omega
  rw [hq]
  clear hq
  go_wp2_with fail
  refine (heldFS_any _ _ _ 1 _ OG7.out.flds (by omega) (by omega)).mono ?_
  rintro e x8 ⟨rfl, hb8⟩
  have HX8 := (show Hid (Box3 x8 w.heap.size 23 (.int .i64 op) (.string s) (.int .i64 n)) from HX7.out.stays hb8)
  have HB8 : Hid (Below w.heap.size w x8) := HB7.out.trans (hb8.mono HB7.out.size)
  have OW8 : Hid (OwnF x8 x2.heap.size (.slice wa gl wc) gl g) := OW7.out.under hb8
  have OG8 : Hid (OwnF x8 x4.heap.size (.slice ga gl gc) gl (marksF 1 gl)) := OG7.out.under hb8
  clear hb8 HX7 HB7 OW7 OG7
  rw [HQ.out]
  obtain ⟨c0, c1, c2⟩ := HX8.out.cells
  go_wp2_with fail
  refine (toReq_any op s n _).mono ?_
  rintro e x9 ⟨rfl, hb9⟩
  have HX9 := (show Hid (Box3 x9 w.heap.size 23 (.int .i64 op) (.string s) (.int .i64 n)) from HX8.out.stays hb9)
  have HB9 : Hid (Below w.heap.size w x9) := HB8.out.trans (hb9.mono HB8.out.size)
  have OW9 : Hid (OwnF x9 x2.heap.size (.slice wa gl wc) gl g) := OW8.out.under hb9
  have OG9 : Hid (OwnF x9 x4.heap.size (.slice ga gl gc) gl (marksF 1 gl)) := OG8.out.under hb9
  clear hb9 HX8 HB8 OW8 OG8 c0 c1 c2
  go_wp2_with fail
  refine (HIm.out x9 HB9.out).mono ?_
  rintro e x10 ⟨ha, hc, rfl, oh, hb10⟩
  have HX10 := (show Hid (Box3 x10 w.heap.size 23 (.int .i64 op) (.string s) (.int .i64 n)) from HX9.out.stays hb10)
  have HB10 : Hid (Below w.heap.size w x10) := HB9.out.trans (hb10.mono HB9.out.size)
  have OW10 : Hid (OwnF x10 x2.heap.size (.slice wa gl wc) gl g) := OW9.out.under hb10
  have OG10 : Hid (OwnF x10 x4.heap.size (.slice ga gl gc) gl (marksF 1 gl)) := OG9.out.under hb10
  have OH10 : Hid (OwnF x10 x9.heap.size (.slice ha gl hc) gl g) := oh
  clear hb10 HX9 HB9 OW9 OG9 oh
  go_wp2_with fail
  refine (eqFieldS_same _ _ _ _ _ _ _ OH10.out.flds OW10.out.flds (by omega)).mono ?_
  rintro e x11 ⟨rfl, hb11⟩
  have HX11 := (show Hid (Box3 x11 w.heap.size 23 (.int .i64 op) (.string s) (.int .i64 n)) from HX10.out.stays hb11)
  have HB11 : Hid (Below w.heap.size w x11) := HB10.out.trans (hb11.mono HB10.out.size)
  have OW11 : Hid (OwnF x11 x2.heap.size (.slice wa gl wc) gl g) := OW10.out.under hb11
  have OG11 : Hid (OwnF x11 x4.heap.size (.slice ga gl gc) gl (marksF 1 gl)) := OG10.out.under hb11
  have OH11 : Hid (OwnF x11 x9.heap.size (.slice ha gl hc) gl g) := OH10.out.under hb11
  clear hb11 HX10 HB10 OW10 OG10 OH10
  go_wp2_with fail
  refine (heldFS_any _ _ _ 1 _ OG11.out.flds (by omega) (by omega)).mono ?_
  rintro e x12 ⟨rfl, hb12⟩
  have HB12 : Hid (Below w.heap.size w x12) := HB11.out.trans (hb12.mono HB11.out.size)
  clear hb12
  rw [HQ.out]
  go_wp2
  go_ret
  exact ⟨rfl, HB12.out⟩

end Go.Proofs.YthojijhafhnclaqDoor

