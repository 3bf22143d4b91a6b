/- The walk of RespFields's law. -/
import Derived.Test.YthojijhafhnclarDoorRespTo
import Derived.Test.YthojijhafhnclarDoorRespFldI
import Derived.Test.YthojijhafhnclarDoorRespFldS
import Derived.Test.YthojijhafhnclarDoorFldEq
import Derived.Test.YthojijhafhnclarDoorFldHeld
namespace Go.Proofs.YthojijhafhnclarDoor
open Go.RowKit
set_option linter.unusedVariables false

theorem OwnF.kept {w w' : World} {base n : Nat} {a : Option Addr} {cap : Nat} {fs : List Fld} {r : Option Nat} (h : OwnF w base (.slice a n cap) n fs) (hg : w.grownBy w' r) (hne : ∀ k, r = some k → a.map (·.block) = some k → False) : OwnF w' base (.slice a n cap) n fs := by
  refine ⟨⟨h.1.1, ?_⟩, h.2⟩
  rcases h.1.2 with ⟨e1, e2⟩ | ⟨g, cap', cur, e, h1, h2, h3⟩
  · exact .inl ⟨e1, e2⟩
  · injection e with e1 e2 e3
    subst e1
    refine .inr ⟨g, cap', cur, by rw [e3], h1, ?_, h3⟩
    have hlt : g < w.heap.size := (Array.getElem?_eq_some_iff.1 h2).1
    exact (hg.block g hlt (fun he => hne g he.symm rfl)).trans h2

theorem OwnF.ltm {w : World} {base n : Nat} {a : Option Addr} {cap : Nat} {fs : List Fld} (h : OwnF w base (.slice a n cap) n fs) (k : Nat) (hk : a.map (·.block) = some k) : base ≤ k ∧ k < w.heap.size := by
  cases a with
  | none => cases hk
  | some x => exact h.1.lt k hk

theorem OwnF.under {w w' : World} {base n : Nat} {v : Value} {fs : List Fld} (h : OwnF w base v n fs) (hb : Below w.heap.size w w') : OwnF w' base v n fs := ⟨own_below h.1 hb, h.2⟩

set_option maxRecDepth 10000 in
set_option maxHeartbeats 1600000 in
theorem respFieldsLaw (st off : Int) (w : World) (_ : -9223372036854775808 ≤ st ∧ st ≤ 9223372036854775807) (_ : -9223372036854775808 ≤ off ∧ off ≤ 9223372036854775807) (hst : TabT w) :
    Calls Tryd.prog 3 #[.agg #[.int .i64 st, .int .i64 off]] w fun e w' => e = .returned (.bool true) ∧ Below w.heap.size w w' := by
  have HSp : Hid (∀ W : World, Calls Tryd.prog 5 #[.agg #[.int .i64 st, .int .i64 off]] W fun e w' => ∃ A C, e = .returned (.slice A (respF st off).length C) ∧ OwnF w' W.heap.size (.slice A (respF st off).length C) (respF st off).length (respF st off) ∧ Below W.heap.size W w') := fun W => specRespF_any st off W
  have HIm : Hid (∀ W : World, Below w.heap.size w W → Calls Tryd.prog 7 #[.agg #[.int .i64 st, .int .i64 off]] W fun e w' => ∃ A C, e = .returned (.slice A (respF st off).length C) ∧ OwnF w' W.heap.size (.slice A (respF st off).length C) (respF st off).length (respF st off) ∧ Below W.heap.size W w') := fun W hW => implRespF_any st off W (hst.below hW)
  have HLen : Hid ((respF st off).length ≤ 4) := respF_len st off
  obtain ⟨g, hgg⟩ : ∃ g, respF st off = g := ⟨_, rfl⟩
  rw [hgg] at HSp HIm HLen
  clear hgg hst
  obtain ⟨gl, hgl⟩ : ∃ gl, g.length = gl := ⟨_, rfl⟩
  rw [hgl] at HSp HIm HLen
  clear hgl
  have hlen := HLen.out
  have HB0 : Hid (Below w.heap.size w (w.alloc (.cells #[.int .i64 st, .int .i64 off] 23))) := (Below.refl _ _).alloc (Nat.le_refl _) _
  have HX0 : Hid (Box2R (w.alloc (.cells #[.int .i64 st, .int .i64 off] 23)) w.heap.size 23 (.int .i64 st) (.int .i64 off)) := Box2R.new _ _ _ _
  go_enter Tryd.func3, Tryd.ntmps3
  go_wp2_with fail
  obtain ⟨x0, hx0⟩ : ∃ x0, w.alloc (.cells #[.int .i64 st, .int .i64 off] 23) = x0 := ⟨_, rfl⟩
  rw [hx0] at HB0 HX0 ⊢
  clear hx0
  obtain ⟨c0, c1⟩ := HX0.out.cells
  refine (toResp_any st off _).mono ?_
  rintro e x1 ⟨rfl, hb1⟩
  have HX1 := (show Hid (Box2R x1 w.heap.size 23 (.int .i64 st) (.int .i64 off)) from HX0.out.stays hb1)
  have HB1 : Hid (Below w.heap.size w x1) := HB0.out.trans (hb1.mono HB0.out.size)
  clear hb1 HX0 HB0 c0 c1
  go_wp2_with fail
  refine (HSp.out x1).mono ?_
  rintro e x2 ⟨wa, wc, rfl, ow, hb2⟩
  have HX2 := (show Hid (Box2R x2 w.heap.size 23 (.int .i64 st) (.int .i64 off)) from HX1.out.stays hb2)
  have HB2 : Hid (Below w.heap.size w x2) := HB1.out.trans (hb2.mono HB1.out.size)
  have OW2 : Hid (OwnF x2 x1.heap.size (.slice wa gl wc) gl g) := ow
  clear hb2 HX1 HB1 ow
  obtain ⟨c0, c1⟩ := HX2.out.cells
  go_wp2_with fail
  refine (toResp_any st off _).mono ?_
  rintro e x3 ⟨rfl, hb3⟩
  have HX3 := (show Hid (Box2R x3 w.heap.size 23 (.int .i64 st) (.int .i64 off)) from HX2.out.stays hb3)
  have HB3 : Hid (Below w.heap.size w x3) := HB2.out.trans (hb3.mono HB2.out.size)
  have OW3 : Hid (OwnF x3 x1.heap.size (.slice wa gl wc) gl g) := OW2.out.under hb3
  clear hb3 HX2 HB2 OW2 c0 c1
  go_wp2_with fail
  refine (HIm.out x3 HB3.out).mono ?_
  rintro e x4 ⟨ga, gc, rfl, og, hb4⟩
  have HX4 := (show Hid (Box2R x4 w.heap.size 23 (.int .i64 st) (.int .i64 off)) from HX3.out.stays hb4)
  have HB4 : Hid (Below w.heap.size w x4) := HB3.out.trans (hb4.mono HB3.out.size)
  have OW4 : Hid (OwnF x4 x1.heap.size (.slice wa gl wc) gl g) := OW3.out.under hb4
  have OG4 : Hid (OwnF x4 x3.heap.size (.slice ga gl gc) gl g) := og
  have hwlt : Hid (∀ k, wa.map (·.block) = some k → k < x3.heap.size) := fun k hk => (OW3.out.ltm k hk).2
  have hglt : Hid (∀ k, ga.map (·.block) = some k → x3.heap.size ≤ k) := fun k hk => (OG4.out.ltm k hk).1
  have hwx : w.heap.size < x3.heap.size := HX3.out.lt
  have hwb : w.heap.size ≤ x3.heap.size := HB3.out.size
  clear hb4 HX3 HB3 OW3 og
  go_wp2_with fail
  refine (eqFieldS_same _ _ _ _ _ _ _ OG4.out.flds OW4.out.flds (by omega)).mono ?_
  rintro e x5 ⟨rfl, hb5⟩
  have HX5 := (show Hid (Box2R x5 w.heap.size 23 (.int .i64 st) (.int .i64 off)) from HX4.out.stays hb5)
  have HB5 : Hid (Below w.heap.size w x5) := HB4.out.trans (hb5.mono HB4.out.size)
  have OW5 : Hid (OwnF x5 x1.heap.size (.slice wa gl wc) gl g) := OW4.out.under hb5
  have OG5 : Hid (OwnF x5 x3.heap.size (.slice ga gl gc) gl g) := OG4.out.under hb5
  clear hb5 HX4 HB4 OW4 OG4
  go_wp2_with fail
  refine (markFS_any _ _ _ _ 1 _ _ OG5.out (by omega) (by omega)).mono ?_
  rintro e x6 ⟨rfl, og, on⟩
  have OG6 : Hid (OwnF x6 x3.heap.size (.slice ga gl gc) gl (marksF 1 gl)) := og
  have OW6 : Hid (OwnF x6 x1.heap.size (.slice wa gl wc) gl g) := OW5.out.kept on (fun k hk h => by have h1 := hwlt.out k h; have h2 := hglt.out k hk; omega)
  have HB6 : Hid (Below w.heap.size w x6) := HB5.out.grown on HB5.out.size (fun k hk => by have h2 := hglt.out k hk; omega)
  have HX6 := (show Hid (Box2R x6 w.heap.size 23 (.int .i64 st) (.int .i64 off)) from HX5.out.grown on (fun hk => by have h2 := hglt.out _ hk; have h3 := hwx; omega))
  clear og on OG5 OW5 HB5 HX5
  obtain ⟨q, hq⟩ : ∃ q, ((1 + 2 * gl : Nat) : Int) = q := ⟨_, rfl⟩
  have HQ : Hid (((1 + 2 * gl : Nat) : Int) = q) := hq
  have hqp : 0 ≤ q := by omega
  rw [hq]
  clear hq
  go_wp2_with fail
  refine (heldFS_any _ _ _ 1 _ OG6.out.flds (by omega) (by omega)).mono ?_
  rintro e x7 ⟨rfl, hb7⟩
  have HX7 := (show Hid (Box2R x7 w.heap.size 23 (.int .i64 st) (.int .i64 off)) from HX6.out.stays hb7)
  have HB7 : Hid (Below w.heap.size w x7) := HB6.out.trans (hb7.mono HB6.out.size)
  have OW7 : Hid (OwnF x7 x1.heap.size (.slice wa gl wc) gl g) := OW6.out.under hb7
  have OG7 : Hid (OwnF x7 x3.heap.size (.slice ga gl gc) gl (marksF 1 gl)) := OG6.out.under hb7
  clear hb7 HX6 HB6 OW6 OG6
  rw [HQ.out]
  obtain ⟨c0, c1⟩ := HX7.out.cells
  go_wp2_with fail
  refine (toResp_any st off _).mono ?_
  rintro e x8 ⟨rfl, hb8⟩
  have HX8 := (show Hid (Box2R x8 w.heap.size 23 (.int .i64 st) (.int .i64 off)) from HX7.out.stays hb8)
  have HB8 : Hid (Below w.heap.size w x8) := HB7.out.trans (hb8.mono HB7.out.size)
  have OW8 : Hid (OwnF x8 x1.heap.size (.slice wa gl wc) gl g) := OW7.out.under hb8
  have OG8 : Hid (OwnF x8 x3.heap.size (.slice ga gl gc) gl (marksF 1 gl)) := OG7.out.under hb8
  clear hb8 HX7 HB7 OW7 OG7 c0 c1
  go_wp2_with fail
  refine (HIm.out x8 HB8.out).mono ?_
  rintro e x9 ⟨ha, hc, rfl, oh, hb9⟩
  have HX9 := (show Hid (Box2R x9 w.heap.size 23 (.int .i64 st) (.int .i64 off)) from HX8.out.stays hb9)
  have HB9 : Hid (Below w.heap.size w x9) := HB8.out.trans (hb9.mono HB8.out.size)
  have OW9 : Hid (OwnF x9 x1.heap.size (.slice wa gl wc) gl g) := OW8.out.under hb9
  have OG9 : Hid (OwnF x9 x3.heap.size (.slice ga gl gc) gl (marksF 1 gl)) := OG8.out.under hb9
  have OH9 : Hid (OwnF x9 x8.heap.size (.slice ha gl hc) gl g) := oh
  clear hb9 HX8 HB8 OW8 OG8 oh
  go_wp2_with fail
  refine (eqFieldS_same _ _ _ _ _ _ _ OH9.out.flds OW9.out.flds (by omega)).mono ?_
  rintro e x10 ⟨rfl, hb10⟩
  have HX10 := (show Hid (Box2R x10 w.heap.size 23 (.int .i64 st) (.int .i64 off)) from HX9.out.stays hb10)
  have HB10 : Hid (Below w.heap.size w x10) := HB9.out.trans (hb10.mono HB9.out.size)
  have OW10 : Hid (OwnF x10 x1.heap.size (.slice wa gl wc) gl g) := OW9.out.under hb10
  have OG10 : Hid (OwnF x10 x3.heap.size (.slice ga gl gc) gl (marksF 1 gl)) := OG9.out.under hb10
  have OH10 : Hid (OwnF x10 x8.heap.size (.slice ha gl hc) gl g) := OH9.out.under hb10
  clear hb10 HX9 HB9 OW9 OG9 OH9
  go_wp2_with fail
  refine (heldFS_any _ _ _ 1 _ OG10.out.flds (by omega) (by omega)).mono ?_
  rintro e x11 ⟨rfl, hb11⟩
  have HB11 : Hid (Below w.heap.size w x11) := HB10.out.trans (hb11.mono HB10.out.size)
  clear hb11
  rw [HQ.out]
  go_wp2
  go_ret
  exact ⟨rfl, HB11.out⟩

end Go.Proofs.YthojijhafhnclarDoor

