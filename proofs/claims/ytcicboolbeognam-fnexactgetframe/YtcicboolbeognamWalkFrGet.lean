/- The law that GetFrame answers as the specification's: its walk. -/
import Derived.Test.YtcicboolbeognamFrTo
import Derived.Test.YtcicboolbeognamFrMark
import Derived.Test.YtcicboolbeognamFrGetF
import Derived.Test.YtcicboolbeognamFrGetS
namespace Go.Proofs.Ytcicboolbeognam
open Go.RowKit
set_option linter.unusedVariables false

/-- A frame in a variable, with its body in a row of the call's own. -/
def FB (W : World) (b base : Nat) (k f s : Int) (a : Option Addr) (bl c : Nat) (zs : List Int) : Prop := Box4 W b 27 (.int .i64 k) (.int .i64 f) (.int .i64 s) (.slice a bl c) ∧ Owns W base a bl c zs

theorem FB.stays {W W' : World} {b base : Nat} {k f s : Int} {a : Option Addr} {bl c : Nat} {zs : List Int} (h : FB W b base k f s a bl c zs) (hb : Below W.heap.size W W') : FB W' b base k f s a bl c zs := ⟨h.1.stays hb, h.2.below hb⟩

theorem FB.grown {W W' : World} {b base : Nat} {k f s : Int} {a : Option Addr} {bl c : Nat} {zs : List Int} {r : Option Nat} (h : FB W b base k f s a bl c zs) (hg : W.grownBy W' r) (h1 : r ≠ some b) (h2 : ∀ q, r = some q → a.map (·.block) ≠ some q) : FB W' b base k f s a bl c zs := ⟨h.1.grown hg h1, h.2.grown hg h2⟩

theorem FB.new {W : World} {base : Nat} (k f s : Int) {a : Option Addr} {bl c : Nat} {zs : List Int} (h : Owns W base a bl c zs) : FB (W.alloc (.cells #[.int .i64 k, .int .i64 f, .int .i64 s, .slice a bl c] 27)) W.heap.size base k f s a bl c zs := ⟨Box4.new _ _ _ _ _ _, h.below ((Below.refl _ _).alloc (Nat.le_refl _) _)⟩

theorem bodyF_len (zs : List Int) (at_ : Int) : (getF zs at_).2.2.2.1.length ≤ 1000 := by
  unfold getF
  split
  · split
    · simp
    · split
      · next h2 h3 =>
        dsimp only
        rw [List.length_take]
        omega
      · simp
  · simp

set_option maxRecDepth 10000 in
set_option maxHeartbeats 3200000 in
theorem frGetWalk (a0 : Option Addr) (len0 cap0 : Nat) (zs : List Int) (a1 : Int) (w : World) (hs : Seg w a0 len0 zs) (ha0 : -9223372036854775808 ≤ a1) (ha1 : a1 ≤ 9223372036854775807) :
    Calls Try.prog 5 #[.slice a0 len0 cap0, .int .i64 a1] w fun e w' => e = .returned (.bool true) ∧ Below w.heap.size w w' := by
  by_cases hbig : 1048576 < len0
  · have hbi : (1048576 : Int) < (len0 : Int) := by omega
    go_enter Try.func5, Try.ntmps5
    go_wp2
    go_ret
    exact ⟨rfl, Below.refl _ _⟩
  have hbi : ¬ (1048576 : Int) < (len0 : Int) := by omega
  have hl : len0 ≤ 1099511627776 := by omega
  have HS : Hid (Seg w a0 len0 zs) := hs
  clear hs hbig
  have HBl : Hid ((getF zs a1).2.2.2.1.length ≤ 1000) := bodyF_len zs a1
  obtain ⟨⟨k, f, s, body, nx, cd⟩, hgf⟩ : ∃ p, getF zs a1 = p := ⟨_, rfl⟩
  have HGF : Hid (getF zs a1 = (k, f, s, body, nx, cd)) := hgf
  have hbl : body.length ≤ 1000 := by have := HBl.out; rw [hgf] at this; exact this
  obtain ⟨bl, hbll⟩ : ∃ bl, body.length = bl := ⟨_, rfl⟩
  have HBL : Hid (body.length = bl) := hbll
  rw [hbll] at hbl
  clear hbll HBl hgf
  have hnx : (nx != nx) = false := by simp
  have hcd : (cd != cd) = false := by simp
  have hSp : Hid (∀ (aa : Option Addr) (W : World), Seg W aa len0 zs → Calls Try.prog 18 #[.slice aa len0 len0, .int .i64 a1] W fun e w' => ∃ a' cap', e = .returned (.tuple #[.agg #[.int .i64 k, .int .i64 f, .int .i64 s, .slice a' bl cap'], .int .i64 nx, .int .i64 cd]) ∧ Owns w' W.heap.size a' bl cap' body ∧ Below W.heap.size W w') := fun aa W h => by
    have := specGetF_any aa len0 len0 a1 zs W h (Nat.le_refl _) hl ⟨ha0, ha1⟩
    rw [HGF.out] at this
    dsimp only at this
    rw [HBL.out] at this
    exact this
  have hIm : Hid (∀ (aa : Option Addr) (W : World), Seg W aa len0 zs → Calls Try.prog 20 #[.slice aa len0 len0, .int .i64 a1] W fun e w' => ∃ a' cap', e = .returned (.tuple #[.agg #[.int .i64 k, .int .i64 f, .int .i64 s, .slice a' bl cap'], .int .i64 nx, .int .i64 cd]) ∧ Owns w' W.heap.size a' bl cap' body ∧ Below W.heap.size W w') := fun aa W h => by
    have := implGetF_any aa len0 len0 a1 zs W h (Nat.le_refl _) hl ⟨ha0, ha1⟩
    rw [HGF.out] at this
    dsimp only at this
    rw [HBL.out] at this
    exact this
  clear HGF HBL
  go_enter Try.func5, Try.ntmps5
  go_wp2_with fail
  refine (toByteS_any _ _ _ _ _ HS.out hl).mono ?_
  rintro e x1 ⟨rfl, ho1, hb1⟩
  have S1 : Hid (Seg x1 (some ⟨w.heap.size, 0, none⟩) len0 zs) := Seg.ofOwn ho1 HS.out.2.1
  have HB1 : Hid (Below w.heap.size w x1) := hb1
  clear ho1 hb1
  go_wp2_with fail
  refine (hSp.out _ x1 S1.out).mono ?_
  rintro e x2 ⟨wa, cw, rfl, ow2, hb2⟩
  have HW3 : Hid (FB (x2.alloc (.cells #[.int .i64 k, .int .i64 f, .int .i64 s, .slice wa bl cw] 27)) x2.heap.size x1.heap.size k f s wa bl cw body) := FB.new k f s ow2
  have HB2 : Hid (Below w.heap.size w x2) := HB1.out.trans (hb2.mono HB1.out.size)
  have HB3 : Hid (Below w.heap.size w (x2.alloc (.cells #[.int .i64 k, .int .i64 f, .int .i64 s, .slice wa bl cw] 27))) := HB2.out.alloc HB2.out.size _
  have HLw : Hid (∀ q, wa.map (·.block) = some q → q < x2.heap.size) := fun q e => (ow2.lt q e).2
  clear ow2 hb2 S1 HB2
  go_wp2_with fail
  obtain ⟨x3, hx3⟩ : ∃ x3, x2.alloc (.cells #[.int .i64 k, .int .i64 f, .int .i64 s, .slice wa bl cw] 27) = x3 := ⟨_, rfl⟩
  have hbw : x2.heap.size < x3.heap.size := by rw [← hx3]; simp
  rw [hx3] at HW3 HB3 ⊢
  clear hx3
  generalize x2.heap.size = bw at *
  refine (toByteS_any _ _ _ _ _ (HS.out.below HB3.out) hl).mono ?_
  rintro e x4 ⟨rfl, ho4, hb4⟩
  have HW4 : Hid (FB x4 bw x1.heap.size k f s wa bl cw body) := HW3.out.stays hb4
  have HB4 : Hid (Below w.heap.size w x4) := HB3.out.trans (hb4.mono HB3.out.size)
  have HX4 : Hid (Owns x4 x3.heap.size (some ⟨x3.heap.size, 0, none⟩) len0 len0 zs) := ⟨ho4, HS.out.2.1⟩
  have hgx : x3.heap.size < x4.heap.size := (ho4.lt _ rfl).2
  have hwx : w.heap.size ≤ x3.heap.size := HB3.out.size
  clear ho4 hb4 HW3 HB3
  go_wp2_with fail
  refine (hIm.out _ x4 HX4.out.seg).mono ?_
  rintro e x5 ⟨ga, gc, rfl, og5, hb5⟩
  have HG6 : Hid (FB (x5.alloc (.cells #[.int .i64 k, .int .i64 f, .int .i64 s, .slice ga bl gc] 27)) x5.heap.size x4.heap.size k f s ga bl gc body) := FB.new k f s og5
  have hb56 : Below x4.heap.size x4 (x5.alloc (.cells #[.int .i64 k, .int .i64 f, .int .i64 s, .slice ga bl gc] 27)) := hb5.alloc hb5.size _
  have HW6 : Hid (FB (x5.alloc (.cells #[.int .i64 k, .int .i64 f, .int .i64 s, .slice ga bl gc] 27)) bw x1.heap.size k f s wa bl cw body) := HW4.out.stays hb56
  have HB6 : Hid (Below w.heap.size w (x5.alloc (.cells #[.int .i64 k, .int .i64 f, .int .i64 s, .slice ga bl gc] 27))) := HB4.out.trans (hb56.mono HB4.out.size)
  have HX6 : Hid (Owns (x5.alloc (.cells #[.int .i64 k, .int .i64 f, .int .i64 s, .slice ga bl gc] 27)) x3.heap.size (some ⟨x3.heap.size, 0, none⟩) len0 len0 zs) := HX4.out.below hb56
  have hbg : x4.heap.size ≤ x5.heap.size := hb5.size
  clear og5 hb5 hb56 HW4 HX4 HB4
  go_upto_region 6 with fail
  obtain ⟨x6, hx6⟩ : ∃ x6, x5.alloc (.cells #[.int .i64 k, .int .i64 f, .int .i64 s, .slice ga bl gc] 27) = x6 := ⟨_, rfl⟩
  rw [hx6] at HG6 HW6 HB6 HX6 ⊢
  clear hx6
  generalize x5.heap.size = bg at *
  obtain ⟨c0, c1, c2, c3⟩ := HG6.out.1.cells
  obtain ⟨d0, d1, d2, d3⟩ := HW6.out.1.cells
  go_wp2_with fail
  refine (eqFrame_same k f s ga wa bl gc cw body x6 HG6.out.2.seg HW6.out.2.seg (by omega)).mono ?_
  rintro e x7 ⟨rfl, hb7⟩
  have HG7 : Hid (FB x7 bg x4.heap.size k f s ga bl gc body) := HG6.out.stays hb7
  have HW7 : Hid (FB x7 bw x1.heap.size k f s wa bl cw body) := HW6.out.stays hb7
  have HX7 : Hid (Owns x7 x3.heap.size (some ⟨x3.heap.size, 0, none⟩) len0 len0 zs) := HX6.out.below hb7
  have HB7 : Hid (Below w.heap.size w x7) := HB6.out.trans (hb7.mono HB6.out.size)
  clear hb7 HG6 HW6 HX6 HB6 c0 c1 c2 c3 d0 d1 d2 d3
  go_wp2_with fail
  refine (toByteS_any _ _ _ _ _ (HS.out.below HB7.out) hl).mono ?_
  rintro e x8 ⟨rfl, ho8, hb8⟩
  have S8 : Hid (Seg x8 (some ⟨x7.heap.size, 0, none⟩) len0 zs) := Seg.ofOwn ho8 HS.out.2.1
  have HG8 : Hid (FB x8 bg x4.heap.size k f s ga bl gc body) := HG7.out.stays hb8
  have HW8 : Hid (FB x8 bw x1.heap.size k f s wa bl cw body) := HW7.out.stays hb8
  have HX8 : Hid (Owns x8 x3.heap.size (some ⟨x3.heap.size, 0, none⟩) len0 len0 zs) := HX7.out.below hb8
  have HB8 : Hid (Below w.heap.size w x8) := HB7.out.trans (hb8.mono HB7.out.size)
  clear ho8 hb8 HG7 HW7 HX7 HB7
  go_wp2_with fail
  refine (eqByteS_same _ _ _ _ _ _ _ HX8.out.seg S8.out hl).mono ?_
  rintro e x9 ⟨rfl, st9⟩
  have hb9 : Below x8.heap.size x8 x9 := Still.below st9 (Below.refl _ _)
  have HG9 : Hid (FB x9 bg x4.heap.size k f s ga bl gc body) := HG8.out.stays hb9
  have HW9 : Hid (FB x9 bw x1.heap.size k f s wa bl cw body) := HW8.out.stays hb9
  have HX9 : Hid (Owns x9 x3.heap.size (some ⟨x3.heap.size, 0, none⟩) len0 len0 zs) := HX8.out.below hb9
  have HB9 : Hid (Below w.heap.size w x9) := HB8.out.trans (hb9.mono HB8.out.size)
  clear st9 hb9 HG8 HW8 HX8 HB8 S8
  go_wp2_with fail
  refine (mark_one _ _ _ _ _ _ HX9.out (by omega)).mono ?_
  rintro e x10 ⟨rfl, _, on10⟩
  have hgr10 : x9.grownBy x10 (some x3.heap.size) := on10
  have HG10 : Hid (FB x10 bg x4.heap.size k f s ga bl gc body) := HG9.out.grown hgr10 (fun e => by injection e with e; omega) (fun q e e2 => by injection e with e; have h1 := (HG9.out.2.lt q e2).1; omega)
  have HW10 : Hid (FB x10 bw x1.heap.size k f s wa bl cw body) := HW9.out.grown hgr10 (fun e => by injection e with e; omega) (fun q e e2 => by injection e with e; have h1 := HLw.out q e2; omega)
  have HB10 : Hid (Below w.heap.size w x10) := HB9.out.grown hgr10 HB9.out.size (fun q e => by injection e with e; omega)
  clear on10 hgr10 HG9 HW9 HX9 HB9
  generalize hq8 : ((1 + len0 : Nat) : Int) = q8
  have hq8p : 0 ≤ q8 := by omega
  clear hq8
  obtain ⟨c0, c1, c2, c3⟩ := HG10.out.1.cells
  obtain ⟨d0, d1, d2, d3⟩ := HW10.out.1.cells
  go_wp2_with fail
  refine (eqFrame_same k f s ga wa bl gc cw body x10 HG10.out.2.seg HW10.out.2.seg (by omega)).mono ?_
  rintro e x11 ⟨rfl, hb11⟩
  have HG11 : Hid (FB x11 bg x4.heap.size k f s ga bl gc body) := HG10.out.stays hb11
  have HW11 : Hid (FB x11 bw x1.heap.size k f s wa bl cw body) := HW10.out.stays hb11
  have HB11 : Hid (Below w.heap.size w x11) := HB10.out.trans (hb11.mono HB10.out.size)
  clear hb11 HG10 HW10 HB10 c0 c1 c2 c3 d0 d1 d2 d3
  obtain ⟨c0, c1, c2, c3⟩ := HG11.out.1.cells
  go_wp2_with fail
  refine (markFrame_any k f s x4.heap.size ga bl gc body x11 HG11.out.2 (by omega)).mono ?_
  rintro e x12 ⟨rfl, og12, on12⟩
  have hgr12 : x11.grownBy x12 (ga.map (·.block)) := on12
  have HG12 : Hid (FB x12 bg x4.heap.size k f s ga bl gc (marks 1 bl)) := ⟨HG11.out.1.grown hgr12 (HG11.out.2.other HG11.out.1 (by decide)), og12⟩
  have HW12 : Hid (FB x12 bw x1.heap.size k f s wa bl cw body) := HW11.out.grown hgr12 (fun e => by have h1 := (HG11.out.2.lt _ e).1; omega) (fun q e e2 => by have h1 := (HG11.out.2.lt q e).1; have h2 := HLw.out q e2; omega)
  have HB12 : Hid (Below w.heap.size w x12) := HB11.out.grown hgr12 HB11.out.size (fun q e => by have h1 := (HG11.out.2.lt q e).1; omega)
  clear og12 on12 hgr12 HG11 HW11 HB11 c0 c1 c2 c3
  have HHF : Hid (∀ W : World, Owns W x4.heap.size ga bl gc (marks 1 bl) → Calls Try.prog 21 #[.agg #[.int .i64 k, .int .i64 f, .int .i64 s, .slice ga bl gc], .int .i64 1] W fun e w' => e = .returned (.int .i64 ((1 + bl : Nat) : Int)) ∧ Below W.heap.size W w') := fun W h => heldFrame_any k f s x4.heap.size ga bl gc W h (by omega)
  generalize hq10 : ((1 + bl : Nat) : Int) = q10 at *
  have hq10p : ¬ q10 < 0 := by omega
  have hq10d : decide (q10 < 0) = false := by simp; omega
  have hq10e : (q10 != q10) = false := by simp
  clear hq10
  obtain ⟨c0, c1, c2, c3⟩ := HG12.out.1.cells
  go_wp2_with fail
  refine (HHF.out x12 HG12.out.2).mono ?_
  rintro e x13 ⟨rfl, hb13⟩
  have HG13 : Hid (FB x13 bg x4.heap.size k f s ga bl gc (marks 1 bl)) := HG12.out.stays hb13
  have HW13 : Hid (FB x13 bw x1.heap.size k f s wa bl cw body) := HW12.out.stays hb13
  have HB13 : Hid (Below w.heap.size w x13) := HB12.out.trans (hb13.mono HB12.out.size)
  clear hb13 HG12 HW12 HB12 c0 c1 c2 c3
  go_wp2_with fail
  refine (toByteS_any _ _ _ _ _ (HS.out.below HB13.out) hl).mono ?_
  rintro e x14 ⟨rfl, ho14, hb14⟩
  have S14 : Hid (Seg x14 (some ⟨x13.heap.size, 0, none⟩) len0 zs) := Seg.ofOwn ho14 HS.out.2.1
  have HG14 : Hid (FB x14 bg x4.heap.size k f s ga bl gc (marks 1 bl)) := HG13.out.stays hb14
  have HW14 : Hid (FB x14 bw x1.heap.size k f s wa bl cw body) := HW13.out.stays hb14
  have HB14 : Hid (Below w.heap.size w x14) := HB13.out.trans (hb14.mono HB13.out.size)
  clear ho14 hb14 HG13 HW13 HB13
  go_wp2_with fail
  refine (hIm.out _ x14 S14.out).mono ?_
  rintro e x15 ⟨ha, hc, rfl, oh15, hb15⟩
  have hb56 : Below x14.heap.size x14 (x15.alloc (.cells #[.int .i64 k, .int .i64 f, .int .i64 s, .slice ha bl hc] 27)) := hb15.alloc hb15.size _
  have HH16 : Hid (FB (x15.alloc (.cells #[.int .i64 k, .int .i64 f, .int .i64 s, .slice ha bl hc] 27)) x15.heap.size x14.heap.size k f s ha bl hc body) := FB.new k f s oh15
  have HG16 : Hid (FB (x15.alloc (.cells #[.int .i64 k, .int .i64 f, .int .i64 s, .slice ha bl hc] 27)) bg x4.heap.size k f s ga bl gc (marks 1 bl)) := HG14.out.stays hb56
  have HW16 : Hid (FB (x15.alloc (.cells #[.int .i64 k, .int .i64 f, .int .i64 s, .slice ha bl hc] 27)) bw x1.heap.size k f s wa bl cw body) := HW14.out.stays hb56
  have HB16 : Hid (Below w.heap.size w (x15.alloc (.cells #[.int .i64 k, .int .i64 f, .int .i64 s, .slice ha bl hc] 27))) := HB14.out.trans (hb56.mono HB14.out.size)
  clear oh15 hb15 hb56 HG14 HW14 HB14 S14
  go_upto_region 23 with fail
  obtain ⟨x16, hx16⟩ : ∃ x16, x15.alloc (.cells #[.int .i64 k, .int .i64 f, .int .i64 s, .slice ha bl hc] 27) = x16 := ⟨_, rfl⟩
  rw [hx16] at HH16 HG16 HW16 HB16 ⊢
  clear hx16
  generalize x15.heap.size = bh at *
  obtain ⟨c0, c1, c2, c3⟩ := HH16.out.1.cells
  obtain ⟨d0, d1, d2, d3⟩ := HW16.out.1.cells
  go_wp2_with fail
  refine (eqFrame_same k f s ha wa bl hc cw body x16 HH16.out.2.seg HW16.out.2.seg (by omega)).mono ?_
  rintro e x17 ⟨rfl, hb17⟩
  have HG17 : Hid (FB x17 bg x4.heap.size k f s ga bl gc (marks 1 bl)) := HG16.out.stays hb17
  have HB17 : Hid (Below w.heap.size w x17) := HB16.out.trans (hb17.mono HB16.out.size)
  clear hb17 HH16 HG16 HW16 HB16 c0 c1 c2 c3 d0 d1 d2 d3
  obtain ⟨c0, c1, c2, c3⟩ := HG17.out.1.cells
  go_wp2_with fail
  refine (HHF.out x17 HG17.out.2).mono ?_
  rintro e x18 ⟨rfl, hb18⟩
  have HB18 : Hid (Below w.heap.size w x18) := HB17.out.trans (hb18.mono HB17.out.size)
  clear hb18 HG17 HB17 c0 c1 c2 c3
  go_wp2_with fail
  go_ret
  exact ⟨rfl, HB18.out⟩

end Go.Proofs.Ytcicboolbeognam
