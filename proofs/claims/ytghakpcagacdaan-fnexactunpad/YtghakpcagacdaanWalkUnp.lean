/- The law that Unpad answers as the specification's: its walk. -/
import Derived.Test.YtghakpcagacdaanFrTo
import Derived.Test.YtghakpcagacdaanFrEq
import Derived.Test.YtghakpcagacdaanFrMk
import Derived.Test.YtghakpcagacdaanUnp
import Derived.Test.YtghakpcagacdaanUnpS
import Derived.Deep.RegionWith
import Derived.Deep.Cut
namespace Go.Proofs.Ytghakpcagacdaan
open Go.RowKit
set_option linter.unusedVariables false

/-- What stays: what was there, the frame that came in, the answer wanted. -/
def PU (w W : World) (k f s : Int) (a0 : Option Addr) (len0 cap0 s1 : Nat) (wa : Option Addr) (gl cw : Nat) (g : List Int) : Prop :=
  Below w.heap.size w W ∧ Box4 W w.heap.size 36 (.int .i64 k) (.int .i64 f) (.int .i64 s) (.slice a0 len0 cap0) ∧ Owns W s1 wa gl cw g

theorem PU.stays {w W W' : World} {k f s : Int} {a0 : Option Addr} {len0 cap0 s1 : Nat} {wa : Option Addr} {gl cw : Nat} {g : List Int} (h : PU w W k f s a0 len0 cap0 s1 wa gl cw g) (hb : Below W.heap.size W W') : PU w W' k f s a0 len0 cap0 s1 wa gl cw g :=
  ⟨h.1.trans (hb.mono h.1.size), h.2.1.stays hb, h.2.2.below hb⟩

theorem PU.grown {w W W' : World} {k f s : Int} {a0 : Option Addr} {len0 cap0 s1 : Nat} {wa : Option Addr} {gl cw : Nat} {g : List Int} {r : Option Nat} (h : PU w W k f s a0 len0 cap0 s1 wa gl cw g) (hg : W.grownBy W' r) (L : Nat) (hL : w.heap.size < L) (hw : ∀ q, wa.map (·.block) = some q → q < L) (hr : ∀ q, r = some q → L ≤ q) : PU w W' k f s a0 len0 cap0 s1 wa gl cw g :=
  ⟨h.1.grown hg h.1.size (fun q e => by have := hr q e; omega), h.2.1.grown hg (fun e => by have := hr _ e; omega), h.2.2.grown hg (fun q e e2 => by have h1 := hr q e; have h2 := hw q e2; omega)⟩

/-- The copy of the frame in a variable of the law's. -/
def XU (W : World) (bx s2 : Nat) (k f s : Int) (g3 len0 : Nat) (zs : List Int) : Prop := Box4 W bx 40 (.int .i64 k) (.int .i64 f) (.int .i64 s) (.slice (some ⟨g3, 0, none⟩) len0 len0) ∧ Owns W s2 (some ⟨g3, 0, none⟩) len0 len0 zs

theorem XU.stays {W W' : World} {bx s2 : Nat} {k f s : Int} {g3 len0 : Nat} {zs : List Int} (h : XU W bx s2 k f s g3 len0 zs) (hb : Below W.heap.size W W') : XU W' bx s2 k f s g3 len0 zs := ⟨h.1.stays hb, h.2.below hb⟩

theorem unpadR_len (p q : Bool) (zs : List Int) : ((unpadR p q zs).getD []).length ≤ zs.length := by
  have h1 : ∀ xs ys : List Int, (if q then prioCut xs else some xs) = some ys → ys.length ≤ xs.length := by
    intro xs ys h
    cases q with
    | true =>
      obtain ⟨_, _, h2, _⟩ := prioCut_some h
      omega
    | false =>
      injection h with h
      rw [h]
      exact Nat.le_refl _
  have h0 : ∀ xs : List Int, (if p then padCut zs else some zs) = some xs → xs.length ≤ zs.length := by
    intro xs h
    cases p with
    | true =>
      obtain ⟨_, _, h2⟩ := padCut_some h
      omega
    | false =>
      injection h with h
      rw [h]
      exact Nat.le_refl _
  cases hu : unpadR p q zs with
  | none => simp
  | some ys =>
    unfold unpadR at hu
    obtain ⟨xs, hx, hy⟩ := Option.bind_eq_some_iff.1 hu
    exact Nat.le_trans (h1 xs ys hy) (h0 xs hx)

set_option maxRecDepth 10000 in
set_option maxHeartbeats 3200000 in
theorem unpWalk (k f s : Int) (a0 : Option Addr) (len0 cap0 : Nat) (zs : List Int) (w : World) (hl : len0 ≤ maxLen) (hs : Seg w a0 len0 zs) :
    Calls Try.prog 7 #[.agg #[.int .i64 k, .int .i64 f, .int .i64 s, .slice a0 len0 cap0]] w fun e w' => e = .returned (.bool true) ∧ Below w.heap.size w w' := by
  have HS : Hid (Seg w a0 len0 zs) := hs
  obtain ⟨r, hr⟩ : ∃ r, unpadR (bits .and .i64 f 8 != 0) ((k == 1) && (bits .and .i64 f 32 != 0)) zs = r := ⟨_, rfl⟩
  have HR : Hid (unpadR (bits .and .i64 f 8 != 0) ((k == 1) && (bits .and .i64 f 32 != 0)) zs = r) := hr
  have HRL : Hid ((r.getD []).length ≤ len0) := by show _ ≤ _; rw [← hr, ← hs.1]; exact unpadR_len _ _ zs
  obtain ⟨g, hg⟩ : ∃ g, r.getD [] = g := ⟨_, rfl⟩
  have HG : Hid (r.getD [] = g) := hg
  obtain ⟨gl, hgl⟩ : ∃ gl, (r.getD []).length = gl := ⟨_, rfl⟩
  have HL : Hid ((r.getD []).length = gl) := hgl
  obtain ⟨rs, hrs⟩ : ∃ rs, r.isSome = rs := ⟨_, rfl⟩
  have HRS : Hid (r.isSome = rs) := hrs
  have hne : (rs != rs) = false := by simp
  clear hs hr hg hgl hrs
  have HB0 : Hid (Below w.heap.size w (w.alloc (.cells #[.int .i64 k, .int .i64 f, .int .i64 s, .slice a0 len0 cap0] 36))) := (Below.refl _ _).alloc (Nat.le_refl _) _
  go_enter Try.func7, Try.ntmps7
  go_wp2_with fail
  refine (szFrame_any k f s a0 len0 cap0 1048576 _ (by omega) (by omega) hl).mono ?_
  rintro e x0 ⟨rfl, hb0⟩
  have HB1 : Hid (Below w.heap.size w x0) := HB0.out.trans (hb0.mono HB0.out.size)
  have HF1 : Hid (Box4 x0 w.heap.size 36 (.int .i64 k) (.int .i64 f) (.int .i64 s) (.slice a0 len0 cap0)) := (Box4.new _ _ _ _ _ _).stays hb0
  clear hb0 HB0
  by_cases hbig : (1048576 : Int) - len0 < 0
  · rw [if_pos hbig]
    go_wp2_with fail
    go_ret
    exact ⟨rfl, HB1.out⟩
  rw [if_neg hbig]
  have hle : len0 ≤ 1048576 := by omega
  have hpl : gl ≤ 1099511627776 := by have h1 := HRL.out; have h2 := HL.out; omega
  have hnn : ¬ (1048576 : Int) - (len0 : Int) < 0 := hbig
  generalize (1048576 : Int) - (len0 : Int) = left0 at *
  clear hbig
  obtain ⟨a0c, a1c, a2c, a3c⟩ := HF1.out.cells
  go_wp2_with fail
  refine (toFrame_any k f s a0 len0 cap0 zs x0 (HS.out.below HB1.out) hle).mono ?_
  rintro e x1 ⟨g1, rfl, _, ho1, hb1⟩
  have HB2 : Hid (Below w.heap.size w x1) := HB1.out.trans (hb1.mono HB1.out.size)
  have HF2 : Hid (Box4 x1 w.heap.size 36 (.int .i64 k) (.int .i64 f) (.int .i64 s) (.slice a0 len0 cap0)) := HF1.out.stays hb1
  have HO1 : Hid (Seg x1 (some ⟨g1, 0, none⟩) len0 zs) := ho1.seg
  clear hb1 ho1 HF1 HB1 a0c a1c a2c a3c
  go_wp2_with fail
  refine (specUnp_any k f s g1 0 len0 len0 zs x1 HO1.out (Nat.le_refl _) hle r gl HR.out HL.out).mono ?_
  rintro e x2 ⟨wa, cw, rfl, ow2, hb2⟩
  rw [HG.out] at ow2
  rw [HRS.out]
  have HP2 : Hid (PU w x2 k f s a0 len0 cap0 x1.heap.size wa gl cw g) := ⟨HB2.out.trans (hb2.mono HB2.out.size), HF2.out.stays hb2, ow2⟩
  have HLw : Hid (w.heap.size < x2.heap.size ∧ ∀ q, wa.map (·.block) = some q → q < x2.heap.size) := ⟨HP2.out.2.1.lt, fun q e => (ow2.lt q e).2⟩
  clear hb2 ow2 HF2 HB2
  obtain ⟨a0c, a1c, a2c, a3c⟩ := HP2.out.2.1.cells
  go_wp2_with fail
  refine (toFrame_any k f s a0 len0 cap0 zs x2 (HS.out.below HP2.out.1) hle).mono ?_
  rintro e x3 ⟨g3, rfl, hg3, ho3, hb3⟩
  have HP4 : Hid (PU w (x3.alloc (.cells #[.int .i64 k, .int .i64 f, .int .i64 s, .slice (some ⟨g3, 0, none⟩) len0 len0] 40)) k f s a0 len0 cap0 x1.heap.size wa gl cw g) := (HP2.out.stays hb3).stays ((Below.refl _ _).alloc (Nat.le_refl _) _)
  have HX4 : Hid (XU (x3.alloc (.cells #[.int .i64 k, .int .i64 f, .int .i64 s, .slice (some ⟨g3, 0, none⟩) len0 len0] 40)) x3.heap.size x2.heap.size k f s g3 len0 zs) := ⟨Box4.new _ _ _ _ _ _, ho3.below ((Below.refl _ _).alloc (Nat.le_refl _) _)⟩
  have HG3 : Hid (x2.heap.size ≤ g3) := hg3
  clear hb3 ho3 hg3 HP2 a0c a1c a2c a3c
  go_wp2_with fail
  obtain ⟨x4, hx4⟩ : ∃ x4, x3.alloc (.cells #[.int .i64 k, .int .i64 f, .int .i64 s, .slice (some ⟨g3, 0, none⟩) len0 len0] 40) = x4 := ⟨_, rfl⟩
  rw [hx4] at HP4 HX4 ⊢
  clear hx4
  generalize x3.heap.size = bx at *
  refine (implUnp_any k f s _ len0 len0 zs x4 HX4.out.2.seg (Nat.le_refl _) hle r gl HR.out HL.out).mono ?_
  rintro e x5 ⟨ga, gc, rfl, og5, hb5⟩
  rw [HG.out] at og5
  rw [HRS.out]
  have HP5 : Hid (PU w x5 k f s a0 len0 cap0 x1.heap.size wa gl cw g) := HP4.out.stays hb5
  have HX5 : Hid (XU x5 bx x2.heap.size k f s g3 len0 zs) := HX4.out.stays hb5
  have OG5 : Hid (Owns x5 x4.heap.size ga gl gc g) := og5
  have HL4 : Hid (g3 < x4.heap.size ∧ x2.heap.size ≤ x4.heap.size) := ⟨(HX4.out.2.lt g3 rfl).2, by have h1 := (HX4.out.2.lt g3 rfl); omega⟩
  clear hb5 og5 HP4 HX4
  go_wp2_with fail
  refine (eqByteS_same ga wa gl gc cw g x5 OG5.out.seg HP5.out.2.2.seg hpl).mono ?_
  rintro e x6 ⟨rfl, st6⟩
  have hb6 : Below x5.heap.size x5 x6 := Still.below st6 (Below.refl _ _)
  have HU : Hid (∀ W, Below x6.heap.size x6 W → PU w W k f s a0 len0 cap0 x1.heap.size wa gl cw g ∧ XU W bx x2.heap.size k f s g3 len0 zs ∧ Owns W x4.heap.size ga gl gc g ∧ Seg W a0 len0 zs) := by
    intro W hW
    have hb : Below x5.heap.size x5 W := hb6.trans (hW.mono hb6.size)
    have hp := HP5.out.stays hb
    exact ⟨hp, HX5.out.stays hb, OG5.out.below hb, HS.out.below hp.1⟩
  clear st6 hb6 HP5 HX5 OG5
  obtain ⟨c0, c1, c2, c3⟩ := (HU.out x6 (Below.refl _ _)).1.2.1.cells
  obtain ⟨d0, d1, d2, d3⟩ := (HU.out x6 (Below.refl _ _)).2.1.1.cells
  go_upto_region 10 with fail
  go_cut [45] from 14 (fun v45 W => v45 = .bool false ∧ Hid (Below x6.heap.size x6 W))
  case first =>
    go_region_with (first
      | (go_at_call 22; refine (toFrame_any k f s a0 len0 cap0 zs _ (HU.out _ (Below.refl _ _).drew).2.2.2 hle).mono ?_; rintro e y1 ⟨g6, rfl, hg6, ho6, hb6⟩; have hb6' : Below x6.heap.size x6 y1 := (Below.refl x6.heap.size x6).drew.trans (hb6.mono (Nat.le_refl _)); obtain ⟨k0, k1, k2, k3⟩ := (HU.out _ hb6').2.1.1.cells)
      | (go_at_call 24; refine (eqFrame_same k f s _ _ len0 len0 len0 zs _ (HU.out _ hb6').2.1.2.seg ho6.seg (by omega)).mono ?_; rintro e y2 ⟨rfl, hb7⟩)
      | fail)
    all_goals
      have HB9 : Hid (Below x6.heap.size x6 y2) := by
        show Below _ _ _
        first
          | exact hb6'.trans (hb7.mono hb6'.size)
          | exact hb6'.drew.trans (hb7.mono hb6'.size)
      clear hb7 hb6 hb6' ho6 hg6 k0 k1 k2 k3
      go_wp2_with fail
      go_meet
      exact ⟨rfl, HB9⟩
  case rest =>
  obtain ⟨rfl, HBc⟩ := hcut
  clear c0 c1 c2 c3 d0 d1 d2 d3
  obtain ⟨x7, hx7⟩ : ∃ x7, wc = x7 := ⟨_, rfl⟩
  rw [hx7] at HBc ⊢
  clear hx7
  obtain ⟨u1, u2, u3, _⟩ := HU.out x7 HBc.out
  have HP7 : Hid (PU w x7 k f s a0 len0 cap0 x1.heap.size wa gl cw g) := u1
  have HX7 : Hid (XU x7 bx x2.heap.size k f s g3 len0 zs) := u2
  have OG7 : Hid (Owns x7 x4.heap.size ga gl gc g) := u3
  clear u1 u2 u3 HU HBc
  obtain ⟨d0, d1, d2, d3⟩ := HX7.out.1.cells
  go_wp2_with fail
  refine (markFrame_any k f s x2.heap.size (some ⟨g3, 0, none⟩) len0 len0 zs x7 HX7.out.2 (by omega)).mono ?_
  rintro e x8 ⟨rfl, _, on8⟩
  have hgr8 : x7.grownBy x8 (some g3) := on8
  have HP8 : Hid (PU w x8 k f s a0 len0 cap0 x1.heap.size wa gl cw g) := HP7.out.grown hgr8 x2.heap.size HLw.out.1 HLw.out.2 (fun q e => by injection e with e; have := HG3.out; omega)
  have OG8 : Hid (Owns x8 x4.heap.size ga gl gc g) := OG7.out.grown hgr8 (fun q e e2 => by injection e with e; have h1 := (OG7.out.lt q e2).1; have h2 := HL4.out.1; omega)
  clear on8 hgr8 HP7 HX7 OG7 d0 d1 d2 d3
  generalize hq8 : ((1 + len0 : Nat) : Int) = q8
  have hq8p : 0 ≤ q8 := by omega
  clear hq8
  go_wp2_with fail
  refine (eqByteS_same ga wa gl gc cw g x8 OG8.out.seg HP8.out.2.2.seg hpl).mono ?_
  rintro e x9 ⟨rfl, st9⟩
  have hb9 : Below x8.heap.size x8 x9 := Still.below st9 (Below.refl _ _)
  have HP9 : Hid (PU w x9 k f s a0 len0 cap0 x1.heap.size wa gl cw g) := HP8.out.stays hb9
  have OG9 : Hid (Owns x9 x4.heap.size ga gl gc g) := OG8.out.below hb9
  clear st9 hb9 HP8 OG8
  go_wp2_with fail
  refine (mark_one x4.heap.size ga gl gc g x9 OG9.out (by omega)).mono ?_
  rintro e x10 ⟨rfl, og10, on10⟩
  have hgr10 : x9.grownBy x10 (ga.map (·.block)) := on10
  have HP10 : Hid (PU w x10 k f s a0 len0 cap0 x1.heap.size wa gl cw g) := HP9.out.grown hgr10 x2.heap.size HLw.out.1 HLw.out.2 (fun q e => by have h1 := (OG9.out.lt q e).1; have h2 := HL4.out.2; omega)
  have OG10 : Hid (Owns x10 x4.heap.size ga gl gc (marks 1 gl)) := og10
  clear og10 on10 hgr10 HP9 OG9
  have HHB : Hid (∀ W : World, Owns W x4.heap.size ga gl gc (marks 1 gl) → Calls Try.prog 12 #[.slice ga gl gc, .int .i64 1] W fun e w' => e = .returned (.int .i64 ((1 + gl : Nat) : Int)) ∧ w' = W) := fun W h => held_one x4.heap.size ga gl gc W h (by omega)
  generalize hq10 : ((1 + gl : Nat) : Int) = q10 at *
  have hq10p : ¬ q10 < 0 := by omega
  have hq10d : decide (q10 < 0) = false := by simp; omega
  have hq10e : (q10 != q10) = false := by simp
  clear hq10
  go_wp2_with fail
  refine (HHB.out x10 OG10.out).mono ?_
  rintro e x11 ⟨rfl, rfl⟩
  obtain ⟨a0c, a1c, a2c, a3c⟩ := HP10.out.2.1.cells
  go_wp2_with fail
  refine (toFrame_any k f s a0 len0 cap0 zs x11 (HS.out.below HP10.out.1) hle).mono ?_
  rintro e x12 ⟨g12, rfl, _, ho12, hb12⟩
  have HP12 : Hid (PU w x12 k f s a0 len0 cap0 x1.heap.size wa gl cw g) := HP10.out.stays hb12
  have OG12 : Hid (Owns x12 x4.heap.size ga gl gc (marks 1 gl)) := OG10.out.below hb12
  have HO12 : Hid (Seg x12 (some ⟨g12, 0, none⟩) len0 zs) := ho12.seg
  clear ho12 hb12 HP10 OG10 a0c a1c a2c a3c
  go_wp2_with fail
  refine (implUnp_any k f s _ len0 len0 zs x12 HO12.out (Nat.le_refl _) hle r gl HR.out HL.out).mono ?_
  rintro e x13 ⟨ha, hc, rfl, oh13, hb13⟩
  rw [HG.out] at oh13
  rw [HRS.out]
  have HP13 : Hid (PU w x13 k f s a0 len0 cap0 x1.heap.size wa gl cw g) := HP12.out.stays hb13
  have OG13 : Hid (Owns x13 x4.heap.size ga gl gc (marks 1 gl)) := OG12.out.below hb13
  have OH13 : Hid (Seg x13 ha gl g) := oh13.seg
  clear oh13 hb13 HP12 OG12 HO12
  go_wp2_with fail
  refine (eqByteS_same ha wa gl hc cw g x13 OH13.out HP13.out.2.2.seg hpl).mono ?_
  rintro e x14 ⟨rfl, st14⟩
  have hb14 : Below x13.heap.size x13 x14 := Still.below st14 (Below.refl _ _)
  have HP14 : Hid (PU w x14 k f s a0 len0 cap0 x1.heap.size wa gl cw g) := HP13.out.stays hb14
  have OG14 : Hid (Owns x14 x4.heap.size ga gl gc (marks 1 gl)) := OG13.out.below hb14
  clear st14 hb14 HP13 OG13 OH13
  go_wp2_with fail
  refine (HHB.out x14 OG14.out).mono ?_
  rintro e x15 ⟨rfl, rfl⟩
  go_wp2_with fail
  go_ret
  exact ⟨rfl, HP14.out.1⟩

end Go.Proofs.Ytghakpcagacdaan
