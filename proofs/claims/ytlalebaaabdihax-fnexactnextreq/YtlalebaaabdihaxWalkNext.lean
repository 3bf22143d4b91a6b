/- The walk of the law FnExactNextReq. -/
import Derived.Test.YtlalebaaabdihaxClTo
import Derived.Test.YtlalebaaabdihaxClMk
import Derived.Test.YtlalebaaabdihaxClV
import Derived.Test.YtlalebaaabdihaxRqV
import Derived.Test.YtlalebaaabdihaxNextS
import Derived.Test.YtlalebaaabdihaxNextI
import Derived.Test.YtlalebaaabdihaxReqEq
import Derived.Test.YtlalebaaabdihaxGrowReg
import Derived.Deep.RegionHeld3
import Derived.Deep.CutBlock
namespace Go.Proofs.Ytlalebaaabdihax
open Go.RowKit
set_option linter.unusedVariables false

set_option maxRecDepth 10000 in
set_option maxHeartbeats 6400000 in
theorem nextWalk (id : ByteArray) (a : Option Addr) (n ca : Nat) (zs : List Int) (st off : Int) (w : World) (hi : id.size ≤ maxLen) (hl : n ≤ maxLen) (hs : Seg w a n zs) :
    Calls Try.prog 3 #[.agg #[.string id, .slice a n ca, .int .i64 st, .int .i64 off]] w fun e w' => e = .returned (.bool true) ∧ Below w.heap.size w w' := by
  have hmm : maxLen < 9223372036854775808 := by decide
  obtain ⟨w0, hw0⟩ : ∃ w0, w.alloc (.cells #[.string id, .slice a n ca, .int .i64 st, .int .i64 off] 24) = w0 := ⟨_, rfl⟩
  have HE : Hid (w.alloc (.cells #[.string id, .slice a n ca, .int .i64 st, .int .i64 off] 24) = w0) := hw0
  have hB0 : Below w.heap.size w w0 := by rw [← hw0]; exact (Below.refl _ _).alloc (Nat.le_refl _) _
  have hQ0 : BoxN w0 w.heap.size 24 [.string id, .slice a n ca, .int .i64 st, .int .i64 off] := by rw [← hw0]; exact BoxN.new _ _ _
  have hww : w.heap.size < w0.heap.size := hQ0.lt
  have HX : Hid (∀ W, Below w0.heap.size w0 W → BoxN W w.heap.size 24 [.string id, .slice a n ca, .int .i64 st, .int .i64 off] ∧ Seg W a n zs ∧ Below w.heap.size w W) := fun W hb => ⟨hQ0.stays hb, (hs.below hB0).below hb, hB0.trans (hb.mono hB0.size)⟩
  have HA0 : Hid (Below w0.heap.size w0 w0) := Below.refl _ _
  clear hw0 hs hQ0 hB0
  have c0 := (HX.out _ HA0.out).1.cell 0 rfl
  have c1 := (HX.out _ HA0.out).1.cell 1 rfl
  have c2 := (HX.out _ HA0.out).1.cell 2 rfl
  have c3 := (HX.out _ HA0.out).1.cell 3 rfl
  go_enter Try.func3, Try.ntmps3
  go_upto_region 1 with fail
  rw [HE.out]
  clear HE
  go_wp2_with fail
  refine (szClient_any id a n ca st off 1048576 w0 (by omega) (by omega) hi hl).mono ?_
  rintro e x0 ⟨⟨L, rfl, hL⟩, hb0⟩
  have HB0 : Hid (Below w0.heap.size w0 x0) := hb0
  clear hb0 c0 c1 c2 c3
  by_cases hneg : L < 0
  · have HBw : Hid (Below w.heap.size w x0) := (HX.out _ HB0.out).2.2
    clear hL
    go_wp2_with fail
    go_ret
    exact ⟨rfl, HBw.out⟩
  have hn1 : n ≤ 1048576 := by omega
  clear hL
  have HTs : Hid (∀ W, Below w0.heap.size w0 W → Calls Try.prog 8 #[.agg #[.string id, .slice a n ca, .int .i64 st, .int .i64 off]] W fun e w' => (∃ g, e = .returned (.agg #[.string id, .slice (some ⟨g, 0, none⟩) n n, .int .i64 st, .int .i64 off]) ∧ Owns w' W.heap.size (some ⟨g, 0, none⟩) n n zs) ∧ Below W.heap.size W w') := fun W hb => toClient_any id a n ca zs st off W (HX.out _ hb).2.1 hn1
  obtain ⟨P0, h0⟩ : ∃ P0, askOp id n st off = P0 := ⟨_, rfl⟩
  obtain ⟨P1, h1⟩ : ∃ P1, askI id n st off = P1 := ⟨_, rfl⟩
  obtain ⟨P2, h2⟩ : ∃ P2, askN id n zs st off = P2 := ⟨_, rfl⟩
  obtain ⟨K, h3⟩ : ∃ K, askK id n st off = K := ⟨_, rfl⟩
  obtain ⟨DZ, h4⟩ : ∃ DZ, askZ id n zs st off = DZ := ⟨_, rfl⟩
  obtain ⟨B, h5⟩ : ∃ B, wayC id n st off = B := ⟨_, rfl⟩
  have hK : K ≤ 24 := by
    rw [← h3, askK]
    split
    · unfold pieceK
      omega
    · omega
  have hBB : (B != B) = false := by simp
  have HP : Hid (∀ (lo g : Nat) (W : World), Below w0.heap.size w0 W → Owns W lo (some ⟨g, 0, none⟩) n n zs → Calls Try.prog 7 #[.agg #[.string id, .slice (some ⟨g, 0, none⟩) n n, .int .i64 st, .int .i64 off]] W fun e w' => (∃ a2 c2, e = .returned (.tuple #[.agg #[.int .i64 P0, .string P1, .int .i64 P2], .slice a2 K c2, .bool B]) ∧ Owns w' W.heap.size a2 K c2 DZ) ∧ Below W.heap.size W w') := fun lo g W hb ho => by
    have h := specNext_any id (some ⟨g, 0, none⟩) n n zs st off W ho.seg hi hn1 (fun _ _ => ⟨g, 0, rfl, Nat.le_refl _⟩)
    rw [h0, h1, h2, h3, h4, h5] at h
    exact h
  have HI : Hid (∀ (lo g : Nat) (W : World), Below w0.heap.size w0 W → Owns W lo (some ⟨g, 0, none⟩) n n zs → Calls Try.prog 9 #[.agg #[.string id, .slice (some ⟨g, 0, none⟩) n n, .int .i64 st, .int .i64 off]] W fun e w' => (∃ a2 c2, e = .returned (.tuple #[.agg #[.int .i64 P0, .string P1, .int .i64 P2], .slice a2 K c2, .bool B]) ∧ Owns w' W.heap.size a2 K c2 DZ) ∧ Below W.heap.size W w') := fun lo g W hb ho => by
    have h := implNext_any id (some ⟨g, 0, none⟩) n n zs st off W ho.seg hi hn1 (fun _ _ => .inr ⟨g, 0, rfl, Nat.le_refl _⟩)
    rw [h0, h1, h2, h3, h4, h5] at h
    exact h
  clear h0 h1 h2 h3 h4 h5
  have c0 := (HX.out _ HB0.out).1.cell 0 rfl
  have c1 := (HX.out _ HB0.out).1.cell 1 rfl
  have c2 := (HX.out _ HB0.out).1.cell 2 rfl
  have c3 := (HX.out _ HB0.out).1.cell 3 rfl
  go_wp2_with fail
  refine (HTs.out _ HB0.out).mono ?_
  rintro e x1 ⟨⟨gx1, rfl, ho⟩, hb⟩
  have HB1 : Hid (Below w0.heap.size w0 x1) := HB0.out.trans (hb.mono HB0.out.size)
  have HO1 : Hid (Owns x1 x0.heap.size (some ⟨gx1, 0, none⟩) n n zs) := ho
  have hz01 : w0.heap.size ≤ x1.heap.size := HB1.out.size
  clear ho hb c0 c1 c2 c3 HB0
  go_wp2_with fail
  refine (HP.out _ _ x1 HB1.out HO1.out).mono ?_
  rintro e zw2 ⟨⟨wa, wc, rfl, ho⟩, hb⟩
  obtain ⟨w2, hw2⟩ : ∃ w2, zw2.alloc (.cells #[.int .i64 P0, .string P1, .int .i64 P2] 27) = w2 := ⟨_, rfl⟩
  obtain ⟨bw, hbw⟩ : ∃ bw, zw2.heap.size = bw := ⟨_, rfl⟩
  have HAw : Hid (RqV w2 x1.heap.size w2.heap.size bw P0 P1 P2 wa K wc DZ) := by
    have h := RqV.new (op := P0) (id := P1) (N := P2) ho hb.size
    show RqV _ _ _ _ _ _ _ _ _ _ _
    rw [← hw2, ← hbw, World.size_alloc]
    exact h
  have HGw2 : Hid (Below x1.heap.size x1 w2) := by
    show Below _ _ _
    rw [← hw2]
    exact hb.alloc hb.size _
  have HEw2 : Hid (_ = w2) := hw2
  have HEbw : Hid (_ = bw) := hbw
  clear hw2 hbw ho hb
  go_upto_region 6 with fail
  rw [HEw2.out, HEbw.out]
  clear HEw2 HEbw
  have HB2 : Hid (Below w0.heap.size w0 w2) := HB1.out.trans (HGw2.out.mono HB1.out.size)
  have hz12 : x1.heap.size ≤ w2.heap.size := HGw2.out.size
  clear HP HGw2 HB1 HO1
  have c0 := (HX.out _ HB2.out).1.cell 0 rfl
  have c1 := (HX.out _ HB2.out).1.cell 1 rfl
  have c2 := (HX.out _ HB2.out).1.cell 2 rfl
  have c3 := (HX.out _ HB2.out).1.cell 3 rfl
  go_wp2_with fail
  refine (HTs.out _ HB2.out).mono ?_
  rintro e x3 ⟨⟨g3, rfl, ho⟩, hb⟩
  obtain ⟨w3, hw3⟩ : ∃ w3, x3.alloc (.cells #[.string id, .slice (some ⟨g3, 0, none⟩) n n, .int .i64 st, .int .i64 off] 30) = w3 := ⟨_, rfl⟩
  obtain ⟨bx, hbx⟩ : ∃ bx, x3.heap.size = bx := ⟨_, rfl⟩
  have HAx : Hid (CV w3 w2.heap.size w3.heap.size bx id (some ⟨g3, 0, none⟩) n n zs st off) := by
    have h := CV.new (id := id) (st := st) (off := off) ho hb.size
    show CV _ _ _ _ _ _ _ _ _ _ _
    rw [← hw3, ← hbx, World.size_alloc]
    exact h
  have HG : Hid (Below w2.heap.size w2 w3) := by
    show Below _ _ _
    rw [← hw3]
    exact hb.alloc hb.size _
  have HB3 : Hid (Below w0.heap.size w0 w3) := HB2.out.trans (HG.out.mono HB2.out.size)
  have hz23 : w2.heap.size ≤ w3.heap.size := HG.out.size
  have HE3 : Hid (_ = w3) := hw3
  have HEb : Hid (_ = bx) := hbx
  have HAw3 : Hid (RqV w3 x1.heap.size w2.heap.size bw P0 P1 P2 wa K wc DZ) := HAw.out.stays HG.out
  clear hw3 hbx ho hb HG HAw HB2 c0 c1 c2 c3
  go_upto_region 7 with fail
  rw [HE3.out, HEb.out]
  clear HE3 HEb
  have q0 := HAx.out.1.cell 0 rfl
  have q1 := HAx.out.1.cell 1 rfl
  have q2 := HAx.out.1.cell 2 rfl
  have q3 := HAx.out.1.cell 3 rfl
  go_wp2_with fail
  refine (HI.out _ _ w3 HB3.out HAx.out.2.1).mono ?_
  rintro e zw4 ⟨⟨ga, gc, rfl, ho⟩, hb⟩
  obtain ⟨w4, hw4⟩ : ∃ w4, zw4.alloc (.cells #[.int .i64 P0, .string P1, .int .i64 P2] 27) = w4 := ⟨_, rfl⟩
  obtain ⟨bg, hbg⟩ : ∃ bg, zw4.heap.size = bg := ⟨_, rfl⟩
  have HAg : Hid (RqV w4 w3.heap.size w4.heap.size bg P0 P1 P2 ga K gc DZ) := by
    have h := RqV.new (op := P0) (id := P1) (N := P2) ho hb.size
    show RqV _ _ _ _ _ _ _ _ _ _ _
    rw [← hw4, ← hbg, World.size_alloc]
    exact h
  have HGw4 : Hid (Below w3.heap.size w3 w4) := by
    show Below _ _ _
    rw [← hw4]
    exact hb.alloc hb.size _
  have HEw4 : Hid (_ = w4) := hw4
  have HEbg : Hid (_ = bg) := hbg
  clear hw4 hbg ho hb
  go_upto_region 8 with fail
  rw [HEw4.out, HEbg.out]
  clear HEw4 HEbg q0 q1 q2 q3
  have HB4 : Hid (Below w0.heap.size w0 w4) := HB3.out.trans (HGw4.out.mono HB3.out.size)
  have HAw4 : Hid (RqV w4 x1.heap.size w2.heap.size bw P0 P1 P2 wa K wc DZ) := HAw3.out.stays HGw4.out
  have HAx4 : Hid (CV w4 w2.heap.size w3.heap.size bx id (some ⟨g3, 0, none⟩) n n zs st off) := HAx.out.stays HGw4.out
  have hz34 : w3.heap.size ≤ w4.heap.size := HGw4.out.size
  clear HGw4 HAw3 HAx HB3
  have p0 := HAw4.out.1.cell 0 rfl
  have p1 := HAw4.out.1.cell 1 rfl
  have p2 := HAw4.out.1.cell 2 rfl
  have q0 := HAg.out.1.cell 0 rfl
  have q1 := HAg.out.1.cell 1 rfl
  have q2 := HAg.out.1.cell 2 rfl
  go_wp2_with fail
  refine (eqReq_same P0 P1 P2 w4).mono ?_
  rintro e yx5 ⟨rfl, hb1⟩
  have HS1 : Hid (Seg yx5 ga K DZ ∧ Seg yx5 wa K DZ) := ⟨(HAg.out.stays hb1).2.1.seg, (HAw4.out.stays hb1).2.1.seg⟩
  have HS2 : Hid (Below w4.heap.size w4 yx5) := hb1
  clear hb1
  go_wp2_with fail
  refine (eqByteS_same ga wa K gc wc DZ yx5 HS1.out.1 HS1.out.2 (by omega)).mono ?_
  rintro e x5 ⟨rfl, st1⟩
  have hb1 : Below w4.heap.size w4 x5 := Still.below st1 HS2.out
  have HAwx5 : Hid (RqV x5 x1.heap.size w2.heap.size bw P0 P1 P2 wa K wc DZ) := HAw4.out.stays hb1
  have HAgx5 : Hid (RqV x5 w3.heap.size w4.heap.size bg P0 P1 P2 ga K gc DZ) := HAg.out.stays hb1
  have HAxx5 : Hid (CV x5 w2.heap.size w3.heap.size bx id (some ⟨g3, 0, none⟩) n n zs st off) := HAx4.out.stays hb1
  have HBx5 : Hid (Below w0.heap.size w0 x5) := HB4.out.trans (hb1.mono HB4.out.size)
  clear hb1 st1 HS1 HS2 p0 p1 p2 q0 q1 q2
  clear HAw4 HAg HAx4 HB4
  go_upto_region 10 with fail
  refine wp_region_grow 4 [Stay.val (.agg #[.string id, .slice (some ⟨g3, 0, none⟩) n n, .int .i64 st, .int .i64 off]), Stay.val (.agg #[.string id, .slice a n ca, .int .i64 st, .int .i64 off]), ⟨fun v W => ∃ a2 c2, v = .agg #[.string id, .slice a2 n c2, .int .i64 st, .int .i64 off] ∧ Owns W x5.heap.size a2 n c2 zs, fun ⟨a2, c2, h0, h1⟩ hb => ⟨a2, c2, h0, h1.below hb⟩⟩, Stay.val (.bool true)] (by kernel_rfl) (by kernel_rfl) ?_ ?_
  · refine (all_succ (all_succ (all_succ (all_succ all_zero ?g0) ?g1) ?g2) ?g3)
    case g0 =>
      intro o ho vs W hb hd
      have HBW : Hid (Below w0.heap.size w0 W) := HBx5.out.trans (hb.mono HBx5.out.size)
      have HS : Hid (x5.heap.size ≤ W.heap.size) := hb.size
      have HXW : Hid (Below x5.heap.size x5 W) := hb
      clear hb
      obtain rfl := Option.some.inj ho
      clear ho hd
      have hq := (HAxx5.out.stays HXW.out).1
      have c0 := hq.cell 0 rfl
      have c1 := hq.cell 1 rfl
      have c2 := hq.cell 2 rfl
      have c3 := hq.cell 3 rfl
      clear hq
      intro K hK
      simp only [List.take, putsT, put_mk, List.setIfInBounds_toArray, List.set_cons_succ, List.set_cons_zero] at hK ⊢
      have HK : Hid _ := hK
      clear hK
      go_wp2_with fail
      exact HK.out _ _ (Below.refl _ _) rfl
    case g1 =>
      intro o ho vs W hb hd
      have HBW : Hid (Below w0.heap.size w0 W) := HBx5.out.trans (hb.mono HBx5.out.size)
      have HS : Hid (x5.heap.size ≤ W.heap.size) := hb.size
      have HXW : Hid (Below x5.heap.size x5 W) := hb
      clear hb
      obtain rfl := Option.some.inj ho
      clear ho hd
      have hq := (HX.out _ HBW.out).1
      have c0 := hq.cell 0 rfl
      have c1 := hq.cell 1 rfl
      have c2 := hq.cell 2 rfl
      have c3 := hq.cell 3 rfl
      clear hq
      intro K hK
      simp only [List.take, putsT, put_mk, List.setIfInBounds_toArray, List.set_cons_succ, List.set_cons_zero] at hK ⊢
      have HK : Hid _ := hK
      clear hK
      go_wp2_with fail
      exact HK.out _ _ (Below.refl _ _) rfl
    case g2 =>
      intro o ho vs W hb hd
      have HBW : Hid (Below w0.heap.size w0 W) := HBx5.out.trans (hb.mono HBx5.out.size)
      have HS : Hid (x5.heap.size ≤ W.heap.size) := hb.size
      have HXW : Hid (Below x5.heap.size x5 W) := hb
      clear hb
      obtain rfl := Option.some.inj ho
      have h1 : vs 1 = _ := hd 1 (by decide) (by kernel_rfl)
      clear ho hd
      intro K hK
      simp only [List.take, putsT, put_mk, List.setIfInBounds_toArray, List.set_cons_succ, List.set_cons_zero] at hK ⊢
      rw [h1] at hK ⊢
      clear h1
      have HK : Hid _ := hK
      clear hK
      go_wp2_with fail
      refine (HTs.out _ HBW.out).mono ?_
      rintro e w' ⟨⟨g, rfl, ho⟩, hb⟩
      go_wp2_with fail
      exact HK.out _ _ hb ⟨_, _, rfl, ho.low HS.out⟩
    case g3 =>
      intro o ho vs W hb hd
      have HBW : Hid (Below w0.heap.size w0 W) := HBx5.out.trans (hb.mono HBx5.out.size)
      have HS : Hid (x5.heap.size ≤ W.heap.size) := hb.size
      have HXW : Hid (Below x5.heap.size x5 W) := hb
      clear hb
      obtain rfl := Option.some.inj ho
      have h0 : vs 0 = _ := hd 0 (by decide) (by kernel_rfl)
      obtain ⟨a2, c2, h2, ho2⟩ := hd 2 (by decide) (by kernel_rfl)
      clear ho hd
      intro K hK
      simp only [List.take, putsT, put_mk, List.setIfInBounds_toArray, List.set_cons_succ, List.set_cons_zero] at hK ⊢
      rw [h0, h2] at hK ⊢
      clear h0 h2
      have HK : Hid _ := hK
      clear hK
      go_wp2_with fail
      refine (eqClient_same id (some ⟨g3, 0, none⟩) a2 n n c2 zs st off W (HAxx5.out.stays HXW.out).2.1.seg ho2.seg (by omega)).mono ?_
      rintro e w' ⟨rfl, hb⟩
      go_wp2_with fail
      exact HK.out _ _ hb rfl
  intro vs W hb hd
  have HBW : Hid (Below w0.heap.size w0 W) := HBx5.out.trans (hb.mono HBx5.out.size)
  have HS : Hid (x5.heap.size ≤ W.heap.size) := hb.size
  have HXW : Hid (Below x5.heap.size x5 W) := hb
  clear hb
  simp only [List.take, List.drop, putsT, put_mk, List.setIfInBounds_toArray, List.set_cons_succ, List.set_cons_zero]
  have h3 := hd 3 (by decide)
  have h3 : vs 3 = .bool true := h3
  rw [h3]
  clear h3 hd HS
  have HAw7 : Hid (RqV W x1.heap.size w2.heap.size bw P0 P1 P2 wa K wc DZ) := HAwx5.out.stays HXW.out
  have HAx7 : Hid (CV W w2.heap.size w3.heap.size bx id (some ⟨g3, 0, none⟩) n n zs st off) := HAxx5.out.stays HXW.out
  have HAg7 : Hid (RqV W w3.heap.size w4.heap.size bg P0 P1 P2 ga K gc DZ) := HAgx5.out.stays HXW.out
  clear HAwx5 HAxx5 HAgx5 HXW HBx5
  have d0 := HAx7.out.1.cell 0 rfl
  have d1 := HAx7.out.1.cell 1 rfl
  have d2 := HAx7.out.1.cell 2 rfl
  have d3 := HAx7.out.1.cell 3 rfl
  go_wp2_with fail
  refine (markClient_any id st off w2.heap.size (some ⟨g3, 0, none⟩) n n 1 zs W HAx7.out.2.1 (by omega) (by omega)).mono ?_
  rintro e x8 ⟨rfl, _, hon⟩
  have hg3 := HAx7.out.row g3 rfl
  have HAw8 : Hid (RqV x8 x1.heap.size w2.heap.size bw P0 P1 P2 wa K wc DZ) := HAw7.out.kept hon (fun q hq => by injection hq with hq; subst hq; exact .inr hg3.1)
  have HAg8 : Hid (RqV x8 w3.heap.size w4.heap.size bg P0 P1 P2 ga K gc DZ) := HAg7.out.kept hon (fun q hq => by injection hq with hq; subst hq; exact .inl hg3.2.1)
  have HB8 : Hid (Below w0.heap.size w0 x8) := HBW.out.grown hon HBW.out.size (fun q hq => by injection hq with hq; subst hq; exact Nat.le_trans (Nat.le_trans hz01 hz12) hg3.1)
  have hkp : ¬ ((1 + n : Nat) : Int) < 0 := by omega
  have hkd : decide (((1 + n : Nat) : Int) < 0) = false := by simp; omega
  obtain ⟨kk, hkk⟩ : ∃ kk, 1 + n = kk := ⟨_, rfl⟩
  rw [hkk] at hkp hkd ⊢
  clear hkk hon hg3 d0 d1 d2 d3 HAw7 HAx7 HAg7 HBW
  have p0 := HAw8.out.1.cell 0 rfl
  have p1 := HAw8.out.1.cell 1 rfl
  have p2 := HAw8.out.1.cell 2 rfl
  have q0 := HAg8.out.1.cell 0 rfl
  have q1 := HAg8.out.1.cell 1 rfl
  have q2 := HAg8.out.1.cell 2 rfl
  go_wp2_with fail
  refine (eqReq_same P0 P1 P2 x8).mono ?_
  rintro e yx9 ⟨rfl, hb1⟩
  have HS1 : Hid (Seg yx9 ga K DZ ∧ Seg yx9 wa K DZ) := ⟨(HAg8.out.stays hb1).2.1.seg, (HAw8.out.stays hb1).2.1.seg⟩
  have HS2 : Hid (Below x8.heap.size x8 yx9) := hb1
  clear hb1
  go_wp2_with fail
  refine (eqByteS_same ga wa K gc wc DZ yx9 HS1.out.1 HS1.out.2 (by omega)).mono ?_
  rintro e x9 ⟨rfl, st1⟩
  have hb1 : Below x8.heap.size x8 x9 := Still.below st1 HS2.out
  have HAwx9 : Hid (RqV x9 x1.heap.size w2.heap.size bw P0 P1 P2 wa K wc DZ) := HAw8.out.stays hb1
  have HAgx9 : Hid (RqV x9 w3.heap.size w4.heap.size bg P0 P1 P2 ga K gc DZ) := HAg8.out.stays hb1
  have HBx9 : Hid (Below w0.heap.size w0 x9) := HB8.out.trans (hb1.mono HB8.out.size)
  clear hb1 st1 HS1 HS2 p0 p1 p2 q0 q1 q2
  clear HAw8 HAg8 HB8 hkp hkd
  go_wp2_with fail
  refine (mark_any w3.heap.size ga K gc 1 DZ x9 HAgx9.out.2.1 (by omega) (by omega)).mono ?_
  rintro e x10 ⟨rfl, hm10, hon⟩
  have HAw10 : Hid (RqV x10 x1.heap.size w2.heap.size bw P0 P1 P2 wa K wc DZ) := HAwx9.out.kept hon (fun q hq => .inr (by have := HAgx9.out.row q hq; omega))
  have HM10 : Hid (RqV x10 w3.heap.size w4.heap.size bg P0 P1 P2 ga K gc (marks 1 K)) := HAgx9.out.marked hm10 hon
  have HB10 : Hid (Below w0.heap.size w0 x10) := HBx9.out.grown hon HBx9.out.size (fun q hq => by have := HAgx9.out.row q hq; omega)
  clear hm10 hon HAwx9 HAgx9 HBx9
  have HHG : Hid (∀ W : World, RqV W w3.heap.size w4.heap.size bg P0 P1 P2 ga K gc (marks 1 K) → Calls Try.prog 15 #[.slice ga K gc, .int .i64 1] W fun e w' => e = .returned (.int .i64 ((1 + K : Nat) : Int)) ∧ w' = W) := fun W h => held_any w3.heap.size ga K gc 1 W h.2.1 (by omega) (by omega)
  generalize hq10 : ((1 + K : Nat) : Int) = q10 at *
  have hq10p : ¬ q10 < 0 := by omega
  have hq10d : decide (q10 < 0) = false := by simp; omega
  have hq10e : (q10 != q10) = false := by simp
  clear hq10
  go_wp2_with fail
  refine (HHG.out _ HM10.out).mono ?_
  rintro e x11 ⟨rfl, hw⟩
  have hw := hw.symm
  subst hw
  have c0 := (HX.out _ HB10.out).1.cell 0 rfl
  have c1 := (HX.out _ HB10.out).1.cell 1 rfl
  have c2 := (HX.out _ HB10.out).1.cell 2 rfl
  have c3 := (HX.out _ HB10.out).1.cell 3 rfl
  go_wp2_with fail
  refine (HTs.out _ HB10.out).mono ?_
  rintro e x12 ⟨⟨gx12, rfl, ho⟩, hb⟩
  have HB12 : Hid (Below w0.heap.size w0 x12) := HB10.out.trans (hb.mono HB10.out.size)
  have HO12 : Hid (Owns x12 x10.heap.size (some ⟨gx12, 0, none⟩) n n zs) := ho
  have HAw12 : Hid (RqV x12 x1.heap.size w2.heap.size bw P0 P1 P2 wa K wc DZ) := HAw10.out.stays hb
  have HM12 : Hid (RqV x12 w3.heap.size w4.heap.size bg P0 P1 P2 ga K gc (marks 1 K)) := HM10.out.stays hb
  clear ho hb c0 c1 c2 c3 HB10 HAw10 HM10
  go_wp2_with fail
  refine (HI.out _ _ x12 HB12.out HO12.out).mono ?_
  rintro e zw13 ⟨⟨ha, hc, rfl, ho⟩, hb⟩
  obtain ⟨w13, hw13⟩ : ∃ w13, zw13.alloc (.cells #[.int .i64 P0, .string P1, .int .i64 P2] 27) = w13 := ⟨_, rfl⟩
  obtain ⟨bh, hbh⟩ : ∃ bh, zw13.heap.size = bh := ⟨_, rfl⟩
  have HAh : Hid (RqV w13 x12.heap.size w13.heap.size bh P0 P1 P2 ha K hc DZ) := by
    have h := RqV.new (op := P0) (id := P1) (N := P2) ho hb.size
    show RqV _ _ _ _ _ _ _ _ _ _ _
    rw [← hw13, ← hbh, World.size_alloc]
    exact h
  have HGw13 : Hid (Below x12.heap.size x12 w13) := by
    show Below _ _ _
    rw [← hw13]
    exact hb.alloc hb.size _
  have HEw13 : Hid (_ = w13) := hw13
  have HEbh : Hid (_ = bh) := hbh
  clear hw13 hbh ho hb
  go_upto_region 25 with fail
  rw [HEw13.out, HEbh.out]
  clear HEw13 HEbh
  have HB13 : Hid (Below w0.heap.size w0 w13) := HB12.out.trans (HGw13.out.mono HB12.out.size)
  have HAw13 : Hid (RqV w13 x1.heap.size w2.heap.size bw P0 P1 P2 wa K wc DZ) := HAw12.out.stays HGw13.out
  have HM13 : Hid (RqV w13 w3.heap.size w4.heap.size bg P0 P1 P2 ga K gc (marks 1 K)) := HM12.out.stays HGw13.out
  clear HGw13 HAw12 HM12 HB12 HO12
  have p0 := HAw13.out.1.cell 0 rfl
  have p1 := HAw13.out.1.cell 1 rfl
  have p2 := HAw13.out.1.cell 2 rfl
  have q0 := HAh.out.1.cell 0 rfl
  have q1 := HAh.out.1.cell 1 rfl
  have q2 := HAh.out.1.cell 2 rfl
  go_wp2_with fail
  refine (eqReq_same P0 P1 P2 w13).mono ?_
  rintro e yx14 ⟨rfl, hb1⟩
  have HS1 : Hid (Seg yx14 ha K DZ ∧ Seg yx14 wa K DZ) := ⟨(HAh.out.stays hb1).2.1.seg, (HAw13.out.stays hb1).2.1.seg⟩
  have HS2 : Hid (Below w13.heap.size w13 yx14) := hb1
  clear hb1
  go_wp2_with fail
  refine (eqByteS_same ha wa K hc wc DZ yx14 HS1.out.1 HS1.out.2 (by omega)).mono ?_
  rintro e x14 ⟨rfl, st1⟩
  have hb1 : Below w13.heap.size w13 x14 := Still.below st1 HS2.out
  have HMx14 : Hid (RqV x14 w3.heap.size w4.heap.size bg P0 P1 P2 ga K gc (marks 1 K)) := HM13.out.stays hb1
  have HBx14 : Hid (Below w0.heap.size w0 x14) := HB13.out.trans (hb1.mono HB13.out.size)
  clear hb1 st1 HS1 HS2 p0 p1 p2 q0 q1 q2
  clear HAh HAw13 HM13 HB13
  go_wp2_with fail
  refine (HHG.out _ HMx14.out).mono ?_
  rintro e x15 ⟨rfl, hw⟩
  have hw := hw.symm
  subst hw
  have HEn : Hid (Below w.heap.size w x14) := (HX.out _ HBx14.out).2.2
  clear HMx14 HBx14
  go_wp2_with fail
  go_ret
  exact ⟨rfl, HEn.out⟩

end Go.Proofs.Ytlalebaaabdihax
