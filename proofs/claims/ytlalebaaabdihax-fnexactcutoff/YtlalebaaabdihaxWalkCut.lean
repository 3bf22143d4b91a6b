/- The walk of the law FnExactCutOff. -/
import Derived.Test.YtlalebaaabdihaxClTo
import Derived.Test.YtlalebaaabdihaxClMk
import Derived.Test.YtlalebaaabdihaxClV
import Derived.Test.YtlalebaaabdihaxCutS
import Derived.Test.YtlalebaaabdihaxCutI
import Derived.Test.YtlalebaaabdihaxGrowReg
import Derived.Deep.RegionHeld3
import Derived.Deep.CutBlock
namespace Go.Proofs.Ytlalebaaabdihax
open Go.RowKit
set_option linter.unusedVariables false

set_option maxRecDepth 10000 in
set_option maxHeartbeats 6400000 in
theorem cutWalk (id : ByteArray) (a : Option Addr) (n ca : Nat) (zs : List Int) (st off : Int) (w : World) (hi : id.size ≤ maxLen) (hl : n ≤ maxLen) (hs : Seg w a n zs) :
    Calls Try.prog 4 #[.agg #[.string id, .slice a n ca, .int .i64 st, .int .i64 off]] w fun e w' => e = .returned (.bool true) ∧ Below w.heap.size w w' := by
  have hmm : maxLen < 9223372036854775808 := by decide
  obtain ⟨w0, hw0⟩ : ∃ w0, w.alloc (.cells #[.string id, .slice a n ca, .int .i64 st, .int .i64 off] 24) = w0 := ⟨_, rfl⟩
  have HE : Hid (w.alloc (.cells #[.string id, .slice a n ca, .int .i64 st, .int .i64 off] 24) = w0) := hw0
  have hB0 : Below w.heap.size w w0 := by rw [← hw0]; exact (Below.refl _ _).alloc (Nat.le_refl _) _
  have hQ0 : BoxN w0 w.heap.size 24 [.string id, .slice a n ca, .int .i64 st, .int .i64 off] := by rw [← hw0]; exact BoxN.new _ _ _
  have hww : w.heap.size < w0.heap.size := hQ0.lt
  have HX : Hid (∀ W, Below w0.heap.size w0 W → BoxN W w.heap.size 24 [.string id, .slice a n ca, .int .i64 st, .int .i64 off] ∧ Seg W a n zs ∧ Below w.heap.size w W) := fun W hb => ⟨hQ0.stays hb, (hs.below hB0).below hb, hB0.trans (hb.mono hB0.size)⟩
  have HA0 : Hid (Below w0.heap.size w0 w0) := Below.refl _ _
  clear hw0 hs hQ0 hB0
  have c0 := (HX.out _ HA0.out).1.cell 0 rfl
  have c1 := (HX.out _ HA0.out).1.cell 1 rfl
  have c2 := (HX.out _ HA0.out).1.cell 2 rfl
  have c3 := (HX.out _ HA0.out).1.cell 3 rfl
  go_enter Try.func4, Try.ntmps4
  go_upto_region 1 with fail
  rw [HE.out]
  clear HE
  go_wp2_with fail
  refine (szClient_any id a n ca st off 1048576 w0 (by omega) (by omega) hi hl).mono ?_
  rintro e x0 ⟨⟨L, rfl, hL⟩, hb0⟩
  have HB0 : Hid (Below w0.heap.size w0 x0) := hb0
  clear hb0 c0 c1 c2 c3
  by_cases hneg : L < 0
  · have HBw : Hid (Below w.heap.size w x0) := (HX.out _ HB0.out).2.2
    clear hL
    go_wp2_with fail
    go_ret
    exact ⟨rfl, HBw.out⟩
  have hn1 : n ≤ 1048576 := by omega
  clear hL
  have HTs : Hid (∀ W, Below w0.heap.size w0 W → Calls Try.prog 8 #[.agg #[.string id, .slice a n ca, .int .i64 st, .int .i64 off]] W fun e w' => (∃ g, e = .returned (.agg #[.string id, .slice (some ⟨g, 0, none⟩) n n, .int .i64 st, .int .i64 off]) ∧ Owns w' W.heap.size (some ⟨g, 0, none⟩) n n zs) ∧ Below W.heap.size W w') := fun W hb => toClient_any id a n ca zs st off W (HX.out _ hb).2.1 hn1
  obtain ⟨S1, hS1⟩ : ∃ S1, (cutC id n st off) = S1 := ⟨_, rfl⟩
  obtain ⟨O1, hO1⟩ : ∃ O1, off = O1 := ⟨_, rfl⟩
  have HP : Hid (∀ (lo : Nat) (a' : Option Addr) (c' : Nat) (W : World), Below w0.heap.size w0 W → Owns W lo a' n c' zs → Calls Try.prog 16 #[.agg #[.string id, .slice a' n c', .int .i64 st, .int .i64 off]] W fun e w' => (∃ a2 c2, e = .returned (.agg #[.string id, .slice a2 n c2, .int .i64 S1, .int .i64 O1]) ∧ Owns w' W.heap.size a2 n c2 zs) ∧ Below W.heap.size W w') := fun lo a' c' W hb ho => by
    have h := specCutOff_any id a' n c' zs st off W ho.seg hi hn1
    rw [hS1] at h
    rw [← hO1]; exact h
  have HI : Hid (∀ (lo : Nat) (a' : Option Addr) (c' : Nat) (W : World), Below w0.heap.size w0 W → Owns W lo a' n c' zs → Calls Try.prog 17 #[.agg #[.string id, .slice a' n c', .int .i64 st, .int .i64 off]] W fun e w' => (∃ a2 c2, e = .returned (.agg #[.string id, .slice a2 n c2, .int .i64 S1, .int .i64 O1]) ∧ Owns w' W.heap.size a2 n c2 zs) ∧ Below W.heap.size W w') := fun lo a' c' W hb ho => by
    have h := implCutOff_any id a' n c' zs st off W ho.seg hi hn1
    rw [hS1] at h
    rw [← hO1]; exact h
  clear hS1 hO1
  have c0 := (HX.out _ HB0.out).1.cell 0 rfl
  have c1 := (HX.out _ HB0.out).1.cell 1 rfl
  have c2 := (HX.out _ HB0.out).1.cell 2 rfl
  have c3 := (HX.out _ HB0.out).1.cell 3 rfl
  go_wp2_with fail
  refine (HTs.out _ HB0.out).mono ?_
  rintro e yw2 ⟨⟨gyw2, rfl, ho⟩, hb⟩
  have HBy : Hid (Below w0.heap.size w0 yw2) := HB0.out.trans (hb.mono HB0.out.size)
  have HOy : Hid (Owns yw2 x0.heap.size _ n n zs) := ho
  have HXy : Hid (Below x0.heap.size x0 yw2) := hb
  clear ho hb c0 c1 c2 c3
  go_wp2_with fail
  refine (HP.out _ _ _ yw2 HBy.out HOy.out).mono ?_
  rintro e zw2 ⟨⟨wa, wc, rfl, ho⟩, hb⟩
  have HXz : Hid (Below x0.heap.size x0 zw2) := HXy.out.trans (hb.mono HXy.out.size)
  have HOz : Hid (Owns zw2 x0.heap.size wa n wc zs) := ho.low HXy.out.size
  clear ho hb HBy HXy HOy
  obtain ⟨w2, hw2⟩ : ∃ w2, zw2.alloc (.cells #[.string id, .slice wa n wc, .int .i64 S1, .int .i64 O1] 30) = w2 := ⟨_, rfl⟩
  obtain ⟨bw, hbw⟩ : ∃ bw, zw2.heap.size = bw := ⟨_, rfl⟩
  have HAw : Hid (CV w2 x0.heap.size w2.heap.size bw id wa n wc zs S1 O1) := by
    have h := CV.new (id := id) (st := S1) (off := O1) HOz.out HXz.out.size
    show CV _ _ _ _ _ _ _ _ _ _ _
    rw [← hw2, ← hbw, World.size_alloc]
    exact h
  have HGw2 : Hid (Below x0.heap.size x0 w2) := by
    show Below _ _ _
    rw [← hw2]
    exact HXz.out.alloc HXz.out.size _
  have HEw2 : Hid (_ = w2) := hw2
  have HEbw : Hid (_ = bw) := hbw
  clear hw2 hbw HXz HOz
  go_upto_region 6 with fail
  rw [HEw2.out, HEbw.out]
  clear HEw2 HEbw
  have HB2 : Hid (Below w0.heap.size w0 w2) := HB0.out.trans (HGw2.out.mono HB0.out.size)
  have hz02 : x0.heap.size ≤ w2.heap.size := HGw2.out.size
  have hz00 : w0.heap.size ≤ x0.heap.size := HB0.out.size
  clear HP HGw2 HB0
  have c0 := (HX.out _ HB2.out).1.cell 0 rfl
  have c1 := (HX.out _ HB2.out).1.cell 1 rfl
  have c2 := (HX.out _ HB2.out).1.cell 2 rfl
  have c3 := (HX.out _ HB2.out).1.cell 3 rfl
  go_wp2_with fail
  refine (HTs.out _ HB2.out).mono ?_
  rintro e x3 ⟨⟨g3, rfl, ho⟩, hb⟩
  obtain ⟨w3, hw3⟩ : ∃ w3, x3.alloc (.cells #[.string id, .slice (some ⟨g3, 0, none⟩) n n, .int .i64 st, .int .i64 off] 30) = w3 := ⟨_, rfl⟩
  obtain ⟨bx, hbx⟩ : ∃ bx, x3.heap.size = bx := ⟨_, rfl⟩
  have HAx : Hid (CV w3 w2.heap.size w3.heap.size bx id (some ⟨g3, 0, none⟩) n n zs st off) := by
    have h := CV.new (id := id) (st := st) (off := off) ho hb.size
    show CV _ _ _ _ _ _ _ _ _ _ _
    rw [← hw3, ← hbx, World.size_alloc]
    exact h
  have HG : Hid (Below w2.heap.size w2 w3) := by
    show Below _ _ _
    rw [← hw3]
    exact hb.alloc hb.size _
  have HB3 : Hid (Below w0.heap.size w0 w3) := HB2.out.trans (HG.out.mono HB2.out.size)
  have HAw3 : Hid (CV w3 x0.heap.size w2.heap.size bw id wa n wc zs S1 O1) := HAw.out.stays HG.out
  have hz23 : w2.heap.size ≤ w3.heap.size := HG.out.size
  have HE3 : Hid (_ = w3) := hw3
  have HEb : Hid (_ = bx) := hbx
  clear hw3 hbx ho hb HG HAw HB2 c0 c1 c2 c3
  go_upto_region 7 with fail
  rw [HE3.out, HEb.out]
  clear HE3 HEb
  have c0 := HAx.out.1.cell 0 rfl
  have c1 := HAx.out.1.cell 1 rfl
  have c2 := HAx.out.1.cell 2 rfl
  have c3 := HAx.out.1.cell 3 rfl
  have HBy : Hid (Below w0.heap.size w0 w3) := HB3.out
  have HXy : Hid (Below w3.heap.size w3 w3) := Below.refl _ _
  go_wp2_with fail
  clear c0 c1 c2 c3
  refine (HI.out _ _ _ w3 HBy.out HAx.out.2.1).mono ?_
  rintro e zw4 ⟨⟨ga, gc, rfl, ho⟩, hb⟩
  have HXz : Hid (Below w3.heap.size w3 zw4) := HXy.out.trans (hb.mono HXy.out.size)
  have HOz : Hid (Owns zw4 w3.heap.size ga n gc zs) := ho.low HXy.out.size
  clear ho hb HBy HXy
  obtain ⟨w4, hw4⟩ : ∃ w4, zw4.alloc (.cells #[.string id, .slice ga n gc, .int .i64 S1, .int .i64 O1] 30) = w4 := ⟨_, rfl⟩
  obtain ⟨bg, hbg⟩ : ∃ bg, zw4.heap.size = bg := ⟨_, rfl⟩
  have HAg : Hid (CV w4 w3.heap.size w4.heap.size bg id ga n gc zs S1 O1) := by
    have h := CV.new (id := id) (st := S1) (off := O1) HOz.out HXz.out.size
    show CV _ _ _ _ _ _ _ _ _ _ _
    rw [← hw4, ← hbg, World.size_alloc]
    exact h
  have HGw4 : Hid (Below w3.heap.size w3 w4) := by
    show Below _ _ _
    rw [← hw4]
    exact HXz.out.alloc HXz.out.size _
  have HEw4 : Hid (_ = w4) := hw4
  have HEbg : Hid (_ = bg) := hbg
  clear hw4 hbg HXz HOz
  go_upto_region 8 with fail
  rw [HEw4.out, HEbg.out]
  clear HEw4 HEbg
  have HB4 : Hid (Below w0.heap.size w0 w4) := HB3.out.trans (HGw4.out.mono HB3.out.size)
  have HAw4 : Hid (CV w4 x0.heap.size w2.heap.size bw id wa n wc zs S1 O1) := HAw3.out.stays HGw4.out
  have HAx4 : Hid (CV w4 w2.heap.size w3.heap.size bx id (some ⟨g3, 0, none⟩) n n zs st off) := HAx.out.stays HGw4.out
  have hz34 : w3.heap.size ≤ w4.heap.size := HGw4.out.size
  clear HGw4 HAw3 HAx HB3
  have p0 := HAw4.out.1.cell 0 rfl
  have p1 := HAw4.out.1.cell 1 rfl
  have p2 := HAw4.out.1.cell 2 rfl
  have p3 := HAw4.out.1.cell 3 rfl
  have q0 := HAg.out.1.cell 0 rfl
  have q1 := HAg.out.1.cell 1 rfl
  have q2 := HAg.out.1.cell 2 rfl
  have q3 := HAg.out.1.cell 3 rfl
  go_wp2_with fail
  refine (eqClient_same id ga wa n gc wc zs S1 O1 w4 HAg.out.2.1.seg HAw4.out.2.1.seg (by omega)).mono ?_
  rintro e x5 ⟨rfl, hb5⟩
  have HAw5 : Hid (CV x5 x0.heap.size w2.heap.size bw id wa n wc zs S1 O1) := HAw4.out.stays hb5
  have HAx5 : Hid (CV x5 w2.heap.size w3.heap.size bx id (some ⟨g3, 0, none⟩) n n zs st off) := HAx4.out.stays hb5
  have HAg5 : Hid (CV x5 w3.heap.size w4.heap.size bg id ga n gc zs S1 O1) := HAg.out.stays hb5
  have HB5 : Hid (Below w0.heap.size w0 x5) := HB4.out.trans (hb5.mono HB4.out.size)
  clear hb5 HAw4 HAx4 HAg HB4 p0 p1 p2 p3 q0 q1 q2 q3
  go_upto_region 10 with fail
  refine wp_region_grow 4 [Stay.val (.agg #[.string id, .slice (some ⟨g3, 0, none⟩) n n, .int .i64 st, .int .i64 off]), Stay.val (.agg #[.string id, .slice a n ca, .int .i64 st, .int .i64 off]), ⟨fun v W => ∃ a2 c2, v = .agg #[.string id, .slice a2 n c2, .int .i64 st, .int .i64 off] ∧ Owns W x5.heap.size a2 n c2 zs, fun ⟨a2, c2, h0, h1⟩ hb => ⟨a2, c2, h0, h1.below hb⟩⟩, Stay.val (.bool true)] (by kernel_rfl) (by kernel_rfl) ?_ ?_
  · refine (all_succ (all_succ (all_succ (all_succ all_zero ?g0) ?g1) ?g2) ?g3)
    case g0 =>
      intro o ho vs W hb hd
      have HBW : Hid (Below w0.heap.size w0 W) := HB5.out.trans (hb.mono HB5.out.size)
      have HS : Hid (x5.heap.size ≤ W.heap.size) := hb.size
      have HXW : Hid (Below x5.heap.size x5 W) := hb
      clear hb
      obtain rfl := Option.some.inj ho
      clear ho hd
      have hq := (HAx5.out.stays HXW.out).1
      have c0 := hq.cell 0 rfl
      have c1 := hq.cell 1 rfl
      have c2 := hq.cell 2 rfl
      have c3 := hq.cell 3 rfl
      clear hq
      intro K hK
      simp only [List.take, putsT, put_mk, List.setIfInBounds_toArray, List.set_cons_succ, List.set_cons_zero] at hK ⊢
      have HK : Hid _ := hK
      clear hK
      go_wp2_with fail
      exact HK.out _ _ (Below.refl _ _) rfl
    case g1 =>
      intro o ho vs W hb hd
      have HBW : Hid (Below w0.heap.size w0 W) := HB5.out.trans (hb.mono HB5.out.size)
      have HS : Hid (x5.heap.size ≤ W.heap.size) := hb.size
      have HXW : Hid (Below x5.heap.size x5 W) := hb
      clear hb
      obtain rfl := Option.some.inj ho
      clear ho hd
      have hq := (HX.out _ HBW.out).1
      have c0 := hq.cell 0 rfl
      have c1 := hq.cell 1 rfl
      have c2 := hq.cell 2 rfl
      have c3 := hq.cell 3 rfl
      clear hq
      intro K hK
      simp only [List.take, putsT, put_mk, List.setIfInBounds_toArray, List.set_cons_succ, List.set_cons_zero] at hK ⊢
      have HK : Hid _ := hK
      clear hK
      go_wp2_with fail
      exact HK.out _ _ (Below.refl _ _) rfl
    case g2 =>
      intro o ho vs W hb hd
      have HBW : Hid (Below w0.heap.size w0 W) := HB5.out.trans (hb.mono HB5.out.size)
      have HS : Hid (x5.heap.size ≤ W.heap.size) := hb.size
      have HXW : Hid (Below x5.heap.size x5 W) := hb
      clear hb
      obtain rfl := Option.some.inj ho
      have h1 : vs 1 = _ := hd 1 (by decide) (by kernel_rfl)
      clear ho hd
      intro K hK
      simp only [List.take, putsT, put_mk, List.setIfInBounds_toArray, List.set_cons_succ, List.set_cons_zero] at hK ⊢
      rw [h1] at hK ⊢
      clear h1
      have HK : Hid _ := hK
      clear hK
      go_wp2_with fail
      refine (HTs.out _ HBW.out).mono ?_
      rintro e w' ⟨⟨g, rfl, ho⟩, hb⟩
      go_wp2_with fail
      exact HK.out _ _ hb ⟨_, _, rfl, ho.low HS.out⟩
    case g3 =>
      intro o ho vs W hb hd
      have HBW : Hid (Below w0.heap.size w0 W) := HB5.out.trans (hb.mono HB5.out.size)
      have HS : Hid (x5.heap.size ≤ W.heap.size) := hb.size
      have HXW : Hid (Below x5.heap.size x5 W) := hb
      clear hb
      obtain rfl := Option.some.inj ho
      have h0 : vs 0 = _ := hd 0 (by decide) (by kernel_rfl)
      obtain ⟨a2, c2, h2, ho2⟩ := hd 2 (by decide) (by kernel_rfl)
      clear ho hd
      intro K hK
      simp only [List.take, putsT, put_mk, List.setIfInBounds_toArray, List.set_cons_succ, List.set_cons_zero] at hK ⊢
      rw [h0, h2] at hK ⊢
      clear h0 h2
      have HK : Hid _ := hK
      clear hK
      go_wp2_with fail
      refine (eqClient_same id (some ⟨g3, 0, none⟩) a2 n n c2 zs st off W (HAx5.out.stays HXW.out).2.1.seg ho2.seg (by omega)).mono ?_
      rintro e w' ⟨rfl, hb⟩
      go_wp2_with fail
      exact HK.out _ _ hb rfl
  intro vs W hb hd
  have HBW : Hid (Below w0.heap.size w0 W) := HB5.out.trans (hb.mono HB5.out.size)
  have HS : Hid (x5.heap.size ≤ W.heap.size) := hb.size
  have HXW : Hid (Below x5.heap.size x5 W) := hb
  clear hb
  simp only [List.take, List.drop, putsT, put_mk, List.setIfInBounds_toArray, List.set_cons_succ, List.set_cons_zero]
  have h3 := hd 3 (by decide)
  have h3 : vs 3 = .bool true := h3
  rw [h3]
  clear h3 hd HS
  have HAw7 : Hid (CV W x0.heap.size w2.heap.size bw id wa n wc zs S1 O1) := HAw5.out.stays HXW.out
  have HAx7 : Hid (CV W w2.heap.size w3.heap.size bx id (some ⟨g3, 0, none⟩) n n zs st off) := HAx5.out.stays HXW.out
  have HAg7 : Hid (CV W w3.heap.size w4.heap.size bg id ga n gc zs S1 O1) := HAg5.out.stays HXW.out
  clear HAw5 HAx5 HAg5 HXW HB5
  have d0 := HAx7.out.1.cell 0 rfl
  have d1 := HAx7.out.1.cell 1 rfl
  have d2 := HAx7.out.1.cell 2 rfl
  have d3 := HAx7.out.1.cell 3 rfl
  go_wp2_with fail
  refine (markClient_any id st off w2.heap.size (some ⟨g3, 0, none⟩) n n 1 zs W HAx7.out.2.1 (by omega) (by omega)).mono ?_
  rintro e x8 ⟨rfl, _, hon⟩
  have hg3 := HAx7.out.row g3 rfl
  have HAw8 : Hid (CV x8 x0.heap.size w2.heap.size bw id wa n wc zs S1 O1) := HAw7.out.kept hon (fun q hq => by injection hq with hq; subst hq; exact .inr hg3.1)
  have HAg8 : Hid (CV x8 w3.heap.size w4.heap.size bg id ga n gc zs S1 O1) := HAg7.out.kept hon (fun q hq => by injection hq with hq; subst hq; exact .inl hg3.2.1)
  have HB8 : Hid (Below w0.heap.size w0 x8) := HBW.out.grown hon HBW.out.size (fun q hq => by injection hq with hq; subst hq; exact Nat.le_trans (Nat.le_trans hz00 hz02) hg3.1)
  have hkp : ¬ ((1 + n : Nat) : Int) < 0 := by omega
  have hkd : decide (((1 + n : Nat) : Int) < 0) = false := by simp; omega
  obtain ⟨kk, hkk⟩ : ∃ kk, 1 + n = kk := ⟨_, rfl⟩
  rw [hkk] at hkp hkd ⊢
  clear hkk hon hg3 d0 d1 d2 d3 HAw7 HAx7 HAg7 HBW
  have p0 := HAw8.out.1.cell 0 rfl
  have p1 := HAw8.out.1.cell 1 rfl
  have p2 := HAw8.out.1.cell 2 rfl
  have p3 := HAw8.out.1.cell 3 rfl
  have q0 := HAg8.out.1.cell 0 rfl
  have q1 := HAg8.out.1.cell 1 rfl
  have q2 := HAg8.out.1.cell 2 rfl
  have q3 := HAg8.out.1.cell 3 rfl
  go_wp2_with fail
  refine (eqClient_same id ga wa n gc wc zs S1 O1 x8 HAg8.out.2.1.seg HAw8.out.2.1.seg (by omega)).mono ?_
  rintro e x9 ⟨rfl, hb9⟩
  have HAw9 : Hid (CV x9 x0.heap.size w2.heap.size bw id wa n wc zs S1 O1) := HAw8.out.stays hb9
  have HAg9 : Hid (CV x9 w3.heap.size w4.heap.size bg id ga n gc zs S1 O1) := HAg8.out.stays hb9
  have HB9 : Hid (Below w0.heap.size w0 x9) := HB8.out.trans (hb9.mono HB8.out.size)
  clear hb9 p0 p1 p2 p3 q0 q1 q2 q3 HAw8 HAg8 HB8 hkp hkd
  have q0 := HAg9.out.1.cell 0 rfl
  have q1 := HAg9.out.1.cell 1 rfl
  have q2 := HAg9.out.1.cell 2 rfl
  have q3 := HAg9.out.1.cell 3 rfl
  go_wp2_with fail
  refine (markClient_any id S1 O1 w3.heap.size ga n gc 1 zs x9 HAg9.out.2.1 (by omega) (by omega)).mono ?_
  rintro e x10 ⟨rfl, hm10, hon⟩
  have HAw10 : Hid (CV x10 x0.heap.size w2.heap.size bw id wa n wc zs S1 O1) := HAw9.out.kept hon (fun q hq => .inr (by have := HAg9.out.row q hq; omega))
  have HM10 : Hid (CV x10 w3.heap.size w4.heap.size bg id ga n gc (marks 1 n) S1 O1) := HAg9.out.marked hm10 hon
  have HB10 : Hid (Below w0.heap.size w0 x10) := HB9.out.grown hon HB9.out.size (fun q hq => by have := HAg9.out.row q hq; have := HB9.out.size; omega)
  clear hm10 hon q0 q1 q2 q3 HAw9 HAg9 HB9
  have HHG : Hid (∀ W : World, CV W w3.heap.size w4.heap.size bg id ga n gc (marks 1 n) S1 O1 → Calls Try.prog 18 #[.agg #[.string id, .slice ga n gc, .int .i64 S1, .int .i64 O1], .int .i64 1] W fun e w' => e = .returned (.int .i64 ((1 + n : Nat) : Int)) ∧ Below W.heap.size W w') := fun W h => heldClient_any id S1 O1 w3.heap.size ga n gc 1 W h.2.1 (by omega) (by omega)
  generalize hq10 : ((1 + n : Nat) : Int) = q10 at *
  have hq10p : ¬ q10 < 0 := by omega
  have hq10d : decide (q10 < 0) = false := by simp; omega
  have hq10e : (q10 != q10) = false := by simp
  clear hq10
  have q0 := HM10.out.1.cell 0 rfl
  have q1 := HM10.out.1.cell 1 rfl
  have q2 := HM10.out.1.cell 2 rfl
  have q3 := HM10.out.1.cell 3 rfl
  go_wp2_with fail
  refine (HHG.out _ HM10.out).mono ?_
  rintro e x11 ⟨rfl, hb11⟩
  have HAw11 : Hid (CV x11 x0.heap.size w2.heap.size bw id wa n wc zs S1 O1) := HAw10.out.stays hb11
  have HM11 : Hid (CV x11 w3.heap.size w4.heap.size bg id ga n gc (marks 1 n) S1 O1) := HM10.out.stays hb11
  have HB11 : Hid (Below w0.heap.size w0 x11) := HB10.out.trans (hb11.mono HB10.out.size)
  clear hb11 q0 q1 q2 q3 HAw10 HM10 HB10
  have c0 := (HX.out _ HB11.out).1.cell 0 rfl
  have c1 := (HX.out _ HB11.out).1.cell 1 rfl
  have c2 := (HX.out _ HB11.out).1.cell 2 rfl
  have c3 := (HX.out _ HB11.out).1.cell 3 rfl
  go_wp2_with fail
  refine (HTs.out _ HB11.out).mono ?_
  rintro e yw13 ⟨⟨gyw13, rfl, ho⟩, hb⟩
  have HBy : Hid (Below w0.heap.size w0 yw13) := HB11.out.trans (hb.mono HB11.out.size)
  have HOy : Hid (Owns yw13 x11.heap.size _ n n zs) := ho
  have HXy : Hid (Below x11.heap.size x11 yw13) := hb
  clear ho hb c0 c1 c2 c3
  go_wp2_with fail
  refine (HI.out _ _ _ yw13 HBy.out HOy.out).mono ?_
  rintro e zw13 ⟨⟨ha, hc, rfl, ho⟩, hb⟩
  have HXz : Hid (Below x11.heap.size x11 zw13) := HXy.out.trans (hb.mono HXy.out.size)
  have HOz : Hid (Owns zw13 x11.heap.size ha n hc zs) := ho.low HXy.out.size
  clear ho hb HBy HXy HOy
  obtain ⟨w13, hw13⟩ : ∃ w13, zw13.alloc (.cells #[.string id, .slice ha n hc, .int .i64 S1, .int .i64 O1] 30) = w13 := ⟨_, rfl⟩
  obtain ⟨bh, hbh⟩ : ∃ bh, zw13.heap.size = bh := ⟨_, rfl⟩
  have HAh : Hid (CV w13 x11.heap.size w13.heap.size bh id ha n hc zs S1 O1) := by
    have h := CV.new (id := id) (st := S1) (off := O1) HOz.out HXz.out.size
    show CV _ _ _ _ _ _ _ _ _ _ _
    rw [← hw13, ← hbh, World.size_alloc]
    exact h
  have HGw13 : Hid (Below x11.heap.size x11 w13) := by
    show Below _ _ _
    rw [← hw13]
    exact HXz.out.alloc HXz.out.size _
  have HEw13 : Hid (_ = w13) := hw13
  have HEbh : Hid (_ = bh) := hbh
  clear hw13 hbh HXz HOz
  go_upto_region 25 with fail
  rw [HEw13.out, HEbh.out]
  clear HEw13 HEbh
  have HB13 : Hid (Below w0.heap.size w0 w13) := HB11.out.trans (HGw13.out.mono HB11.out.size)
  have HAw13 : Hid (CV w13 x0.heap.size w2.heap.size bw id wa n wc zs S1 O1) := HAw11.out.stays HGw13.out
  have HM13 : Hid (CV w13 w3.heap.size w4.heap.size bg id ga n gc (marks 1 n) S1 O1) := HM11.out.stays HGw13.out
  clear HGw13 HAw11 HM11 HB11
  have p0 := HAw13.out.1.cell 0 rfl
  have p1 := HAw13.out.1.cell 1 rfl
  have p2 := HAw13.out.1.cell 2 rfl
  have p3 := HAw13.out.1.cell 3 rfl
  have q0 := HAh.out.1.cell 0 rfl
  have q1 := HAh.out.1.cell 1 rfl
  have q2 := HAh.out.1.cell 2 rfl
  have q3 := HAh.out.1.cell 3 rfl
  go_wp2_with fail
  refine (eqClient_same id ha wa n hc wc zs S1 O1 w13 HAh.out.2.1.seg HAw13.out.2.1.seg (by omega)).mono ?_
  rintro e x14 ⟨rfl, hb14⟩
  have HM14 : Hid (CV x14 w3.heap.size w4.heap.size bg id ga n gc (marks 1 n) S1 O1) := HM13.out.stays hb14
  have HB14 : Hid (Below w0.heap.size w0 x14) := HB13.out.trans (hb14.mono HB13.out.size)
  clear hb14 p0 p1 p2 p3 q0 q1 q2 q3 HAw13 HAh HM13 HB13
  have q0 := HM14.out.1.cell 0 rfl
  have q1 := HM14.out.1.cell 1 rfl
  have q2 := HM14.out.1.cell 2 rfl
  have q3 := HM14.out.1.cell 3 rfl
  go_wp2_with fail
  refine (HHG.out _ HM14.out).mono ?_
  rintro e x15 ⟨rfl, hb15⟩
  have HEn : Hid (Below w.heap.size w x15) := (HX.out _ (HB14.out.trans (hb15.mono HB14.out.size))).2.2
  clear hb15 q0 q1 q2 q3 HM14 HB14
  go_wp2_with fail
  go_ret
  exact ⟨rfl, HEn.out⟩

end Go.Proofs.Ytlalebaaabdihax
