/- The walk of the law FnExactHearResp. -/
import Derived.Test.YtlalebaaabdihaxDoorClTo
import Derived.Test.YtlalebaaabdihaxDoorClMk
import Derived.Test.YtlalebaaabdihaxDoorClV
import Derived.Test.YtlalebaaabdihaxDoorHearS
import Derived.Test.YtlalebaaabdihaxDoorHearI
import Derived.Test.YtlalebaaabdihaxDoorRespTo
import Derived.Test.YtlalebaaabdihaxDoorGrowReg
import Derived.Deep.RegionHeld3
import Derived.Deep.CutBlock
namespace Go.Proofs.YtlalebaaabdihaxDoor
open Go.RowKit
set_option linter.unusedVariables false

set_option maxRecDepth 10000 in
set_option maxHeartbeats 6400000 in
theorem hearRWalk (id : ByteArray) (a : Option Addr) (n ca : Nat) (zs : List Int) (st off : Int) (q r : Int) (w : World) (hi : id.size ≤ maxLen) (hl : n ≤ maxLen) (hs : Seg w a n zs) (ht : TurnT w) :
    Calls Tryd.prog 3 #[.agg #[.string id, .slice a n ca, .int .i64 st, .int .i64 off], .agg #[.int .i64 q, .int .i64 r]] w fun e w' => e = .returned (.bool true) ∧ Below w.heap.size w w' := by
  have hmm : maxLen < 9223372036854775808 := by decide
  obtain ⟨w0, hw0⟩ : ∃ w0, (w.alloc (.cells #[.string id, .slice a n ca, .int .i64 st, .int .i64 off] 24)).alloc (.cells #[.int .i64 q, .int .i64 r] 26) = w0 := ⟨_, rfl⟩
  have HE : Hid ((w.alloc (.cells #[.string id, .slice a n ca, .int .i64 st, .int .i64 off] 24)).alloc (.cells #[.int .i64 q, .int .i64 r] 26) = w0) := hw0
  have hB0 : Below w.heap.size w w0 := by rw [← hw0]; exact ((Below.refl _ _).alloc (Nat.le_refl _) _).alloc (by simp) _
  have hQ0 : BoxN w0 w.heap.size 24 [.string id, .slice a n ca, .int .i64 st, .int .i64 off] := by rw [← hw0]; exact (BoxN.new _ _ _).alloc _
  have hQ1 : BoxN w0 (w.heap.size + 1) 26 [.int .i64 q, .int .i64 r] := by
    rw [← hw0]
    have := BoxN.new (w.alloc (.cells #[.string id, .slice a n ca, .int .i64 st, .int .i64 off] 24)) 26 [.int .i64 q, .int .i64 r]
    rwa [World.size_alloc] at this
  have hww : w.heap.size + 1 < w0.heap.size := hQ1.lt
  have HX : Hid (∀ W, Below w0.heap.size w0 W → BoxN W w.heap.size 24 [.string id, .slice a n ca, .int .i64 st, .int .i64 off] ∧ Seg W a n zs ∧ Below w.heap.size w W ∧ BoxN W (w.heap.size + 1) 26 [.int .i64 q, .int .i64 r] ∧ TurnT W) := fun W hb => ⟨hQ0.stays hb, (hs.below hB0).below hb, hB0.trans (hb.mono hB0.size), hQ1.stays hb, (ht.below hB0).below hb⟩
  have HA0 : Hid (Below w0.heap.size w0 w0) := Below.refl _ _
  clear hw0 hs hQ0 hB0 hQ1 ht
  have c0 := (HX.out _ HA0.out).1.cell 0 rfl
  have c1 := (HX.out _ HA0.out).1.cell 1 rfl
  have c2 := (HX.out _ HA0.out).1.cell 2 rfl
  have c3 := (HX.out _ HA0.out).1.cell 3 rfl
  go_enter Tryd.func3, Tryd.ntmps3
  go_upto_region 1 with fail
  rw [HE.out]
  clear HE
  go_wp2_with fail
  refine (szClient_any id a n ca st off 1048576 w0 (by omega) (by omega) hi hl).mono ?_
  rintro e x0 ⟨⟨L, rfl, hL⟩, hb0⟩
  have HB0 : Hid (Below w0.heap.size w0 x0) := hb0
  clear hb0 c0 c1 c2 c3
  by_cases hneg : L < 0
  · have HBw : Hid (Below w.heap.size w x0) := (HX.out _ HB0.out).2.2.1
    clear hL
    go_wp2_with fail
    go_ret
    exact ⟨rfl, HBw.out⟩
  have hn1 : n ≤ 1048576 := by omega
  clear hL
  have HTs : Hid (∀ W, Below w0.heap.size w0 W → Calls Tryd.prog 6 #[.agg #[.string id, .slice a n ca, .int .i64 st, .int .i64 off]] W fun e w' => (∃ g, e = .returned (.agg #[.string id, .slice (some ⟨g, 0, none⟩) n n, .int .i64 st, .int .i64 off]) ∧ Owns w' W.heap.size (some ⟨g, 0, none⟩) n n zs) ∧ Below W.heap.size W w') := fun W hb => toClient_any id a n ca zs st off W (HX.out _ hb).2.1 hn1
  obtain ⟨S1, hS1⟩ : ∃ S1, (hearC id n st off q r).1 = S1 := ⟨_, rfl⟩
  obtain ⟨O1, hO1⟩ : ∃ O1, (hearC id n st off q r).2 = O1 := ⟨_, rfl⟩
  have HP : Hid (∀ (lo : Nat) (a' : Option Addr) (c' : Nat) (W : World), Below w0.heap.size w0 W → Owns W lo a' n c' zs → Calls Tryd.prog 5 #[.agg #[.string id, .slice a' n c', .int .i64 st, .int .i64 off], .agg #[.int .i64 q, .int .i64 r]] W fun e w' => (∃ a2 c2, e = .returned (.agg #[.string id, .slice a2 n c2, .int .i64 S1, .int .i64 O1]) ∧ Owns w' W.heap.size a2 n c2 zs) ∧ Below W.heap.size W w') := fun lo a' c' W hb ho => by
    have h := specHearR_any id a' n c' zs st off q r W ho.seg hi hn1
    rw [hS1, hO1] at h
    exact h
  have HI : Hid (∀ (lo : Nat) (a' : Option Addr) (c' : Nat) (W : World), Below w0.heap.size w0 W → Owns W lo a' n c' zs → Calls Tryd.prog 8 #[.agg #[.string id, .slice a' n c', .int .i64 st, .int .i64 off], .agg #[.int .i64 q, .int .i64 r]] W fun e w' => (∃ a2 c2, e = .returned (.agg #[.string id, .slice a2 n c2, .int .i64 S1, .int .i64 O1]) ∧ Owns w' W.heap.size a2 n c2 zs) ∧ Below W.heap.size W w') := fun lo a' c' W hb ho => by
    have h := implHearR_any id a' n c' zs st off q r W ho.seg hi hn1 (HX.out _ hb).2.2.2.2
    rw [hS1, hO1] at h
    exact h
  clear hS1 hO1
  go_upto_region 5 with fail
  refine wp_region_grow 6 [Stay.val (.agg #[.string id, .slice a n ca, .int .i64 st, .int .i64 off]), ⟨fun v W => ∃ a2 c2, v = .agg #[.string id, .slice a2 n c2, .int .i64 st, .int .i64 off] ∧ Owns W x0.heap.size a2 n c2 zs, fun ⟨a2, c2, h0, h1⟩ hb => ⟨a2, c2, h0, h1.below hb⟩⟩, Stay.val (.agg #[.int .i64 q, .int .i64 r]), Stay.val (.agg #[.int .i64 q, .int .i64 r]), ⟨fun v W => ∃ a2 c2, v = .agg #[.string id, .slice a2 n c2, .int .i64 S1, .int .i64 O1] ∧ Owns W x0.heap.size a2 n c2 zs, fun ⟨a2, c2, h0, h1⟩ hb => ⟨a2, c2, h0, h1.below hb⟩⟩, ⟨fun v W => ∃ b, v = .pointer (some ⟨b, 0, none⟩) ∧ x0.heap.size ≤ b ∧ BoxN W b 28 [.string ⟨#[]⟩, .slice none 0 0, .int .i64 0, .int .i64 0], fun ⟨b, h0, h1, h2⟩ hb => ⟨b, h0, h1, h2.stays hb⟩⟩] (by kernel_rfl) (by kernel_rfl) ?_ ?_
  · refine (all_succ (all_succ (all_succ (all_succ (all_succ (all_succ all_zero ?g0) ?g1) ?g2) ?g3) ?g4) ?g5)
    case g0 =>
      intro o ho vs W hb hd
      have HBW : Hid (Below w0.heap.size w0 W) := HB0.out.trans (hb.mono HB0.out.size)
      have HS : Hid (x0.heap.size ≤ W.heap.size) := hb.size
      have HXW : Hid (Below x0.heap.size x0 W) := hb
      clear hb
      obtain rfl := Option.some.inj ho
      clear ho hd
      have hq := (HX.out _ HBW.out).1
      have c0 := hq.cell 0 rfl
      have c1 := hq.cell 1 rfl
      have c2 := hq.cell 2 rfl
      have c3 := hq.cell 3 rfl
      clear hq
      intro K hK
      simp only [List.take, putsT, put_mk, List.setIfInBounds_toArray, List.set_cons_succ, List.set_cons_zero] at hK ⊢
      have HK : Hid _ := hK
      clear hK
      go_wp2_with fail
      exact HK.out _ _ (Below.refl _ _) rfl
    case g1 =>
      intro o ho vs W hb hd
      have HBW : Hid (Below w0.heap.size w0 W) := HB0.out.trans (hb.mono HB0.out.size)
      have HS : Hid (x0.heap.size ≤ W.heap.size) := hb.size
      have HXW : Hid (Below x0.heap.size x0 W) := hb
      clear hb
      obtain rfl := Option.some.inj ho
      have h0 : vs 0 = _ := hd 0 (by decide) (by kernel_rfl)
      clear ho hd
      intro K hK
      simp only [List.take, putsT, put_mk, List.setIfInBounds_toArray, List.set_cons_succ, List.set_cons_zero] at hK ⊢
      rw [h0] at hK ⊢
      clear h0
      have HK : Hid _ := hK
      clear hK
      go_wp2_with fail
      refine (HTs.out _ HBW.out).mono ?_
      rintro e w' ⟨⟨g, rfl, ho⟩, hb⟩
      go_wp2_with fail
      exact HK.out _ _ hb ⟨_, _, rfl, ho.low HS.out⟩
    case g2 =>
      intro o ho vs W hb hd
      have HBW : Hid (Below w0.heap.size w0 W) := HB0.out.trans (hb.mono HB0.out.size)
      have HS : Hid (x0.heap.size ≤ W.heap.size) := hb.size
      have HXW : Hid (Below x0.heap.size x0 W) := hb
      clear hb
      obtain rfl := Option.some.inj ho
      clear ho hd
      have hq := (HX.out _ HBW.out).2.2.2.1
      have c0 := hq.cell 0 rfl
      have c1 := hq.cell 1 rfl
      clear hq
      intro K hK
      simp only [List.take, putsT, put_mk, List.setIfInBounds_toArray, List.set_cons_succ, List.set_cons_zero] at hK ⊢
      have HK : Hid _ := hK
      clear hK
      go_wp2_with fail
      exact HK.out _ _ (Below.refl _ _) rfl
    case g3 =>
      intro o ho vs W hb hd
      have HBW : Hid (Below w0.heap.size w0 W) := HB0.out.trans (hb.mono HB0.out.size)
      have HS : Hid (x0.heap.size ≤ W.heap.size) := hb.size
      have HXW : Hid (Below x0.heap.size x0 W) := hb
      clear hb
      obtain rfl := Option.some.inj ho
      have h2 : vs 2 = _ := hd 2 (by decide) (by kernel_rfl)
      clear ho hd
      intro K hK
      simp only [List.take, putsT, put_mk, List.setIfInBounds_toArray, List.set_cons_succ, List.set_cons_zero] at hK ⊢
      rw [h2] at hK ⊢
      clear h2
      have HK : Hid _ := hK
      clear hK
      go_wp2_with fail
      refine (toResp_any q r W).mono ?_
      rintro e w' ⟨rfl, hb⟩
      go_wp2_with fail
      exact HK.out _ _ hb rfl
    case g4 =>
      intro o ho vs W hb hd
      have HBW : Hid (Below w0.heap.size w0 W) := HB0.out.trans (hb.mono HB0.out.size)
      have HS : Hid (x0.heap.size ≤ W.heap.size) := hb.size
      have HXW : Hid (Below x0.heap.size x0 W) := hb
      clear hb
      obtain rfl := Option.some.inj ho
      obtain ⟨a2, c2, h1, ho2⟩ := hd 1 (by decide) (by kernel_rfl)
      have h3 : vs 3 = _ := hd 3 (by decide) (by kernel_rfl)
      clear ho hd
      intro K hK
      simp only [List.take, putsT, put_mk, List.setIfInBounds_toArray, List.set_cons_succ, List.set_cons_zero] at hK ⊢
      rw [h1, h3] at hK ⊢
      clear h1 h3
      have HK : Hid _ := hK
      clear hK
      go_wp2_with fail
      refine (HP.out _ _ _ W HBW.out ho2).mono ?_
      rintro e w' ⟨⟨a4, c4, rfl, ho⟩, hb⟩
      go_wp2_with fail
      exact HK.out _ _ hb ⟨_, _, rfl, ho.low HS.out⟩
    case g5 =>
      intro o ho vs W hb hd
      have HBW : Hid (Below w0.heap.size w0 W) := HB0.out.trans (hb.mono HB0.out.size)
      have HS : Hid (x0.heap.size ≤ W.heap.size) := hb.size
      have HXW : Hid (Below x0.heap.size x0 W) := hb
      clear hb
      obtain rfl := Option.some.inj ho
      clear ho hd
      intro K hK
      simp only [List.take, putsT, put_mk, List.setIfInBounds_toArray, List.set_cons_succ, List.set_cons_zero] at hK ⊢
      have HK : Hid _ := hK
      clear hK
      go_wp2_with fail
      exact HK.out _ _ ((Below.refl _ _).alloc (Nat.le_refl _) _) ⟨_, rfl, HS.out, BoxN.new _ _ _⟩
  intro vs W hb hd
  have HBW : Hid (Below w0.heap.size w0 W) := HB0.out.trans (hb.mono HB0.out.size)
  have HS : Hid (x0.heap.size ≤ W.heap.size) := hb.size
  have HXW : Hid (Below x0.heap.size x0 W) := hb
  clear hb
  simp only [List.take, List.drop, putsT, put_mk, List.setIfInBounds_toArray, List.set_cons_succ, List.set_cons_zero]
  obtain ⟨wa, wc, hv, hov⟩ := hd 4 (by decide)
  obtain ⟨bw, hbv, hlo, hbx⟩ := hd 5 (by decide)
  rw [hv, hbv]
  clear hv hbv hd
  have d0 := hbx.cell 0 rfl
  have d1 := hbx.cell 1 rfl
  have d2 := hbx.cell 2 rfl
  have d3 := hbx.cell 3 rfl
  have f0 := hbx.frozen 0
  have f1 := hbx.frozen 1
  have f2 := hbx.frozen 2
  have f3 := hbx.frozen 3
  obtain ⟨w2, hw2⟩ : ∃ w2, (((W.setCell ⟨bw, 0, none⟩ (.string id)).setCell ⟨bw, 1, none⟩ (.slice wa n wc)).setCell ⟨bw, 2, none⟩ (.int .i64 S1)).setCell ⟨bw, 3, none⟩ (.int .i64 O1) = w2 := ⟨_, rfl⟩
  have HAw : Hid (CV w2 x0.heap.size w2.heap.size bw id wa n wc zs S1 O1) := by
    have h := CV.put (st := S1) (off := O1) (id := id) (vs := []) hbx hov hlo
    rw [hw2] at h
    show CV _ _ _ _ _ _ _ _ _ _ _
    refine h.up ?_
    rw [← hw2]
    simp
  have HGw2 : Hid (Below x0.heap.size x0 w2) := by
    show Below _ _ _
    rw [← hw2]
    exact (((HXW.out.setCell hlo _).setCell hlo _).setCell hlo _).setCell hlo _
  have HEw2 : Hid (_ = w2) := hw2
  clear hw2 hbx hov hlo HS
  go_upto_region 6 with fail
  rw [HEw2.out]
  clear HEw2 d0 d1 d2 d3 f0 f1 f2 f3
  have HB2 : Hid (Below w0.heap.size w0 w2) := HB0.out.trans (HGw2.out.mono HB0.out.size)
  have hz02 : x0.heap.size ≤ w2.heap.size := HGw2.out.size
  have hz00 : w0.heap.size ≤ x0.heap.size := HB0.out.size
  clear HP HGw2 HB0
  have c0 := (HX.out _ HB2.out).1.cell 0 rfl
  have c1 := (HX.out _ HB2.out).1.cell 1 rfl
  have c2 := (HX.out _ HB2.out).1.cell 2 rfl
  have c3 := (HX.out _ HB2.out).1.cell 3 rfl
  go_wp2_with fail
  refine (HTs.out _ HB2.out).mono ?_
  rintro e x3 ⟨⟨g3, rfl, ho⟩, hb⟩
  obtain ⟨w3, hw3⟩ : ∃ w3, x3.alloc (.cells #[.string id, .slice (some ⟨g3, 0, none⟩) n n, .int .i64 st, .int .i64 off] 28) = w3 := ⟨_, rfl⟩
  obtain ⟨bx, hbx⟩ : ∃ bx, x3.heap.size = bx := ⟨_, rfl⟩
  have HAx : Hid (CV w3 w2.heap.size w3.heap.size bx id (some ⟨g3, 0, none⟩) n n zs st off) := by
    have h := CV.new (id := id) (st := st) (off := off) ho hb.size
    show CV _ _ _ _ _ _ _ _ _ _ _
    rw [← hw3, ← hbx, World.size_alloc]
    exact h
  have HG : Hid (Below w2.heap.size w2 w3) := by
    show Below _ _ _
    rw [← hw3]
    exact hb.alloc hb.size _
  have HB3 : Hid (Below w0.heap.size w0 w3) := HB2.out.trans (HG.out.mono HB2.out.size)
  have HAw3 : Hid (CV w3 x0.heap.size w2.heap.size bw id wa n wc zs S1 O1) := HAw.out.stays HG.out
  have hz23 : w2.heap.size ≤ w3.heap.size := HG.out.size
  have HE3 : Hid (_ = w3) := hw3
  have HEb : Hid (_ = bx) := hbx
  clear hw3 hbx ho hb HG HAw HB2 c0 c1 c2 c3
  go_upto_region 7 with fail
  rw [HE3.out, HEb.out]
  clear HE3 HEb
  go_upto_region 7 with fail
  refine wp_region_grow 5 [Stay.val (.agg #[.string id, .slice (some ⟨g3, 0, none⟩) n n, .int .i64 st, .int .i64 off]), Stay.val (.agg #[.int .i64 q, .int .i64 r]), Stay.val (.agg #[.int .i64 q, .int .i64 r]), ⟨fun v W => ∃ a2 c2, v = .agg #[.string id, .slice a2 n c2, .int .i64 S1, .int .i64 O1] ∧ Owns W w3.heap.size a2 n c2 zs, fun ⟨a2, c2, h0, h1⟩ hb => ⟨a2, c2, h0, h1.below hb⟩⟩, ⟨fun v W => ∃ b, v = .pointer (some ⟨b, 0, none⟩) ∧ w3.heap.size ≤ b ∧ BoxN W b 28 [.string ⟨#[]⟩, .slice none 0 0, .int .i64 0, .int .i64 0], fun ⟨b, h0, h1, h2⟩ hb => ⟨b, h0, h1, h2.stays hb⟩⟩] (by kernel_rfl) (by kernel_rfl) ?_ ?_
  · refine (all_succ (all_succ (all_succ (all_succ (all_succ all_zero ?g0) ?g1) ?g2) ?g3) ?g4)
    case g0 =>
      intro o ho vs W hb hd
      have HBW : Hid (Below w0.heap.size w0 W) := HB3.out.trans (hb.mono HB3.out.size)
      have HS : Hid (w3.heap.size ≤ W.heap.size) := hb.size
      have HXW : Hid (Below w3.heap.size w3 W) := hb
      clear hb
      obtain rfl := Option.some.inj ho
      clear ho hd
      have hq := (HAx.out.stays HXW.out).1
      have c0 := hq.cell 0 rfl
      have c1 := hq.cell 1 rfl
      have c2 := hq.cell 2 rfl
      have c3 := hq.cell 3 rfl
      clear hq
      intro K hK
      simp only [List.take, putsT, put_mk, List.setIfInBounds_toArray, List.set_cons_succ, List.set_cons_zero] at hK ⊢
      have HK : Hid _ := hK
      clear hK
      go_wp2_with fail
      exact HK.out _ _ (Below.refl _ _) rfl
    case g1 =>
      intro o ho vs W hb hd
      have HBW : Hid (Below w0.heap.size w0 W) := HB3.out.trans (hb.mono HB3.out.size)
      have HS : Hid (w3.heap.size ≤ W.heap.size) := hb.size
      have HXW : Hid (Below w3.heap.size w3 W) := hb
      clear hb
      obtain rfl := Option.some.inj ho
      clear ho hd
      have hq := (HX.out _ HBW.out).2.2.2.1
      have c0 := hq.cell 0 rfl
      have c1 := hq.cell 1 rfl
      clear hq
      intro K hK
      simp only [List.take, putsT, put_mk, List.setIfInBounds_toArray, List.set_cons_succ, List.set_cons_zero] at hK ⊢
      have HK : Hid _ := hK
      clear hK
      go_wp2_with fail
      exact HK.out _ _ (Below.refl _ _) rfl
    case g2 =>
      intro o ho vs W hb hd
      have HBW : Hid (Below w0.heap.size w0 W) := HB3.out.trans (hb.mono HB3.out.size)
      have HS : Hid (w3.heap.size ≤ W.heap.size) := hb.size
      have HXW : Hid (Below w3.heap.size w3 W) := hb
      clear hb
      obtain rfl := Option.some.inj ho
      have h1 : vs 1 = _ := hd 1 (by decide) (by kernel_rfl)
      clear ho hd
      intro K hK
      simp only [List.take, putsT, put_mk, List.setIfInBounds_toArray, List.set_cons_succ, List.set_cons_zero] at hK ⊢
      rw [h1] at hK ⊢
      clear h1
      have HK : Hid _ := hK
      clear hK
      go_wp2_with fail
      refine (toResp_any q r W).mono ?_
      rintro e w' ⟨rfl, hb⟩
      go_wp2_with fail
      exact HK.out _ _ hb rfl
    case g3 =>
      intro o ho vs W hb hd
      have HBW : Hid (Below w0.heap.size w0 W) := HB3.out.trans (hb.mono HB3.out.size)
      have HS : Hid (w3.heap.size ≤ W.heap.size) := hb.size
      have HXW : Hid (Below w3.heap.size w3 W) := hb
      clear hb
      obtain rfl := Option.some.inj ho
      have h0 : vs 0 = _ := hd 0 (by decide) (by kernel_rfl)
      have h2 : vs 2 = _ := hd 2 (by decide) (by kernel_rfl)
      clear ho hd
      intro K hK
      simp only [List.take, putsT, put_mk, List.setIfInBounds_toArray, List.set_cons_succ, List.set_cons_zero] at hK ⊢
      rw [h0, h2] at hK ⊢
      clear h0 h2
      have HK : Hid _ := hK
      clear hK
      go_wp2_with fail
      refine (HI.out _ _ _ W HBW.out (HAx.out.stays HXW.out).2.1).mono ?_
      rintro e w' ⟨⟨a4, c4, rfl, ho⟩, hb⟩
      go_wp2_with fail
      exact HK.out _ _ hb ⟨_, _, rfl, ho.low HS.out⟩
    case g4 =>
      intro o ho vs W hb hd
      have HBW : Hid (Below w0.heap.size w0 W) := HB3.out.trans (hb.mono HB3.out.size)
      have HS : Hid (w3.heap.size ≤ W.heap.size) := hb.size
      have HXW : Hid (Below w3.heap.size w3 W) := hb
      clear hb
      obtain rfl := Option.some.inj ho
      clear ho hd
      intro K hK
      simp only [List.take, putsT, put_mk, List.setIfInBounds_toArray, List.set_cons_succ, List.set_cons_zero] at hK ⊢
      have HK : Hid _ := hK
      clear hK
      go_wp2_with fail
      exact HK.out _ _ ((Below.refl _ _).alloc (Nat.le_refl _) _) ⟨_, rfl, HS.out, BoxN.new _ _ _⟩
  intro vs W hb hd
  have HBW : Hid (Below w0.heap.size w0 W) := HB3.out.trans (hb.mono HB3.out.size)
  have HS : Hid (w3.heap.size ≤ W.heap.size) := hb.size
  have HXW : Hid (Below w3.heap.size w3 W) := hb
  clear hb
  simp only [List.take, List.drop, putsT, put_mk, List.setIfInBounds_toArray, List.set_cons_succ, List.set_cons_zero]
  obtain ⟨ga, gc, hv, hov⟩ := hd 3 (by decide)
  obtain ⟨bg, hbv, hlo, hbx⟩ := hd 4 (by decide)
  rw [hv, hbv]
  clear hv hbv hd
  have d0 := hbx.cell 0 rfl
  have d1 := hbx.cell 1 rfl
  have d2 := hbx.cell 2 rfl
  have d3 := hbx.cell 3 rfl
  have f0 := hbx.frozen 0
  have f1 := hbx.frozen 1
  have f2 := hbx.frozen 2
  have f3 := hbx.frozen 3
  obtain ⟨w4, hw4⟩ : ∃ w4, (((W.setCell ⟨bg, 0, none⟩ (.string id)).setCell ⟨bg, 1, none⟩ (.slice ga n gc)).setCell ⟨bg, 2, none⟩ (.int .i64 S1)).setCell ⟨bg, 3, none⟩ (.int .i64 O1) = w4 := ⟨_, rfl⟩
  have HAg : Hid (CV w4 w3.heap.size w4.heap.size bg id ga n gc zs S1 O1) := by
    have h := CV.put (st := S1) (off := O1) (id := id) (vs := []) hbx hov hlo
    rw [hw4] at h
    show CV _ _ _ _ _ _ _ _ _ _ _
    refine h.up ?_
    rw [← hw4]
    simp
  have HGw4 : Hid (Below w3.heap.size w3 w4) := by
    show Below _ _ _
    rw [← hw4]
    exact (((HXW.out.setCell hlo _).setCell hlo _).setCell hlo _).setCell hlo _
  have HEw4 : Hid (_ = w4) := hw4
  clear hw4 hbx hov hlo HS
  go_upto_region 8 with fail
  rw [HEw4.out]
  clear HEw4 d0 d1 d2 d3 f0 f1 f2 f3
  have HB4 : Hid (Below w0.heap.size w0 w4) := HB3.out.trans (HGw4.out.mono HB3.out.size)
  have HAw4 : Hid (CV w4 x0.heap.size w2.heap.size bw id wa n wc zs S1 O1) := HAw3.out.stays HGw4.out
  have HAx4 : Hid (CV w4 w2.heap.size w3.heap.size bx id (some ⟨g3, 0, none⟩) n n zs st off) := HAx.out.stays HGw4.out
  have hz34 : w3.heap.size ≤ w4.heap.size := HGw4.out.size
  clear HGw4 HAw3 HAx HB3
  have p0 := HAw4.out.1.cell 0 rfl
  have p1 := HAw4.out.1.cell 1 rfl
  have p2 := HAw4.out.1.cell 2 rfl
  have p3 := HAw4.out.1.cell 3 rfl
  have q0 := HAg.out.1.cell 0 rfl
  have q1 := HAg.out.1.cell 1 rfl
  have q2 := HAg.out.1.cell 2 rfl
  have q3 := HAg.out.1.cell 3 rfl
  go_wp2_with fail
  refine (eqClient_same id ga wa n gc wc zs S1 O1 w4 HAg.out.2.1.seg HAw4.out.2.1.seg (by omega)).mono ?_
  rintro e x5 ⟨rfl, hb5⟩
  have HAw5 : Hid (CV x5 x0.heap.size w2.heap.size bw id wa n wc zs S1 O1) := HAw4.out.stays hb5
  have HAx5 : Hid (CV x5 w2.heap.size w3.heap.size bx id (some ⟨g3, 0, none⟩) n n zs st off) := HAx4.out.stays hb5
  have HAg5 : Hid (CV x5 w3.heap.size w4.heap.size bg id ga n gc zs S1 O1) := HAg.out.stays hb5
  have HB5 : Hid (Below w0.heap.size w0 x5) := HB4.out.trans (hb5.mono HB4.out.size)
  clear hb5 HAw4 HAx4 HAg HB4 p0 p1 p2 p3 q0 q1 q2 q3
  go_upto_region 10 with fail
  refine wp_region_grow 4 [Stay.val (.agg #[.string id, .slice (some ⟨g3, 0, none⟩) n n, .int .i64 st, .int .i64 off]), Stay.val (.agg #[.string id, .slice a n ca, .int .i64 st, .int .i64 off]), ⟨fun v W => ∃ a2 c2, v = .agg #[.string id, .slice a2 n c2, .int .i64 st, .int .i64 off] ∧ Owns W x5.heap.size a2 n c2 zs, fun ⟨a2, c2, h0, h1⟩ hb => ⟨a2, c2, h0, h1.below hb⟩⟩, Stay.val (.bool true)] (by kernel_rfl) (by kernel_rfl) ?_ ?_
  · refine (all_succ (all_succ (all_succ (all_succ all_zero ?g0) ?g1) ?g2) ?g3)
    case g0 =>
      intro o ho vs W hb hd
      have HBW : Hid (Below w0.heap.size w0 W) := HB5.out.trans (hb.mono HB5.out.size)
      have HS : Hid (x5.heap.size ≤ W.heap.size) := hb.size
      have HXW : Hid (Below x5.heap.size x5 W) := hb
      clear hb
      obtain rfl := Option.some.inj ho
      clear ho hd
      have hq := (HAx5.out.stays HXW.out).1
      have c0 := hq.cell 0 rfl
      have c1 := hq.cell 1 rfl
      have c2 := hq.cell 2 rfl
      have c3 := hq.cell 3 rfl
      clear hq
      intro K hK
      simp only [List.take, putsT, put_mk, List.setIfInBounds_toArray, List.set_cons_succ, List.set_cons_zero] at hK ⊢
      have HK : Hid _ := hK
      clear hK
      go_wp2_with fail
      exact HK.out _ _ (Below.refl _ _) rfl
    case g1 =>
      intro o ho vs W hb hd
      have HBW : Hid (Below w0.heap.size w0 W) := HB5.out.trans (hb.mono HB5.out.size)
      have HS : Hid (x5.heap.size ≤ W.heap.size) := hb.size
      have HXW : Hid (Below x5.heap.size x5 W) := hb
      clear hb
      obtain rfl := Option.some.inj ho
      clear ho hd
      have hq := (HX.out _ HBW.out).1
      have c0 := hq.cell 0 rfl
      have c1 := hq.cell 1 rfl
      have c2 := hq.cell 2 rfl
      have c3 := hq.cell 3 rfl
      clear hq
      intro K hK
      simp only [List.take, putsT, put_mk, List.setIfInBounds_toArray, List.set_cons_succ, List.set_cons_zero] at hK ⊢
      have HK : Hid _ := hK
      clear hK
      go_wp2_with fail
      exact HK.out _ _ (Below.refl _ _) rfl
    case g2 =>
      intro o ho vs W hb hd
      have HBW : Hid (Below w0.heap.size w0 W) := HB5.out.trans (hb.mono HB5.out.size)
      have HS : Hid (x5.heap.size ≤ W.heap.size) := hb.size
      have HXW : Hid (Below x5.heap.size x5 W) := hb
      clear hb
      obtain rfl := Option.some.inj ho
      have h1 : vs 1 = _ := hd 1 (by decide) (by kernel_rfl)
      clear ho hd
      intro K hK
      simp only [List.take, putsT, put_mk, List.setIfInBounds_toArray, List.set_cons_succ, List.set_cons_zero] at hK ⊢
      rw [h1] at hK ⊢
      clear h1
      have HK : Hid _ := hK
      clear hK
      go_wp2_with fail
      refine (HTs.out _ HBW.out).mono ?_
      rintro e w' ⟨⟨g, rfl, ho⟩, hb⟩
      go_wp2_with fail
      exact HK.out _ _ hb ⟨_, _, rfl, ho.low HS.out⟩
    case g3 =>
      intro o ho vs W hb hd
      have HBW : Hid (Below w0.heap.size w0 W) := HB5.out.trans (hb.mono HB5.out.size)
      have HS : Hid (x5.heap.size ≤ W.heap.size) := hb.size
      have HXW : Hid (Below x5.heap.size x5 W) := hb
      clear hb
      obtain rfl := Option.some.inj ho
      have h0 : vs 0 = _ := hd 0 (by decide) (by kernel_rfl)
      obtain ⟨a2, c2, h2, ho2⟩ := hd 2 (by decide) (by kernel_rfl)
      clear ho hd
      intro K hK
      simp only [List.take, putsT, put_mk, List.setIfInBounds_toArray, List.set_cons_succ, List.set_cons_zero] at hK ⊢
      rw [h0, h2] at hK ⊢
      clear h0 h2
      have HK : Hid _ := hK
      clear hK
      go_wp2_with fail
      refine (eqClient_same id (some ⟨g3, 0, none⟩) a2 n n c2 zs st off W (HAx5.out.stays HXW.out).2.1.seg ho2.seg (by omega)).mono ?_
      rintro e w' ⟨rfl, hb⟩
      go_wp2_with fail
      exact HK.out _ _ hb rfl
  intro vs W hb hd
  have HBW : Hid (Below w0.heap.size w0 W) := HB5.out.trans (hb.mono HB5.out.size)
  have HS : Hid (x5.heap.size ≤ W.heap.size) := hb.size
  have HXW : Hid (Below x5.heap.size x5 W) := hb
  clear hb
  simp only [List.take, List.drop, putsT, put_mk, List.setIfInBounds_toArray, List.set_cons_succ, List.set_cons_zero]
  have h3 := hd 3 (by decide)
  have h3 : vs 3 = .bool true := h3
  rw [h3]
  clear h3 hd HS
  have HAw7 : Hid (CV W x0.heap.size w2.heap.size bw id wa n wc zs S1 O1) := HAw5.out.stays HXW.out
  have HAx7 : Hid (CV W w2.heap.size w3.heap.size bx id (some ⟨g3, 0, none⟩) n n zs st off) := HAx5.out.stays HXW.out
  have HAg7 : Hid (CV W w3.heap.size w4.heap.size bg id ga n gc zs S1 O1) := HAg5.out.stays HXW.out
  clear HAw5 HAx5 HAg5 HXW HB5
  have d0 := HAx7.out.1.cell 0 rfl
  have d1 := HAx7.out.1.cell 1 rfl
  have d2 := HAx7.out.1.cell 2 rfl
  have d3 := HAx7.out.1.cell 3 rfl
  go_wp2_with fail
  refine (markClient_any id st off w2.heap.size (some ⟨g3, 0, none⟩) n n 1 zs W HAx7.out.2.1 (by omega) (by omega)).mono ?_
  rintro e x8 ⟨rfl, _, hon⟩
  have hg3 := HAx7.out.row g3 rfl
  have HAw8 : Hid (CV x8 x0.heap.size w2.heap.size bw id wa n wc zs S1 O1) := HAw7.out.kept hon (fun q hq => by injection hq with hq; subst hq; exact .inr hg3.1)
  have HAg8 : Hid (CV x8 w3.heap.size w4.heap.size bg id ga n gc zs S1 O1) := HAg7.out.kept hon (fun q hq => by injection hq with hq; subst hq; exact .inl hg3.2.1)
  have HB8 : Hid (Below w0.heap.size w0 x8) := HBW.out.grown hon HBW.out.size (fun q hq => by injection hq with hq; subst hq; exact Nat.le_trans (Nat.le_trans hz00 hz02) hg3.1)
  have hkp : ¬ ((1 + n : Nat) : Int) < 0 := by omega
  have hkd : decide (((1 + n : Nat) : Int) < 0) = false := by simp; omega
  obtain ⟨kk, hkk⟩ : ∃ kk, 1 + n = kk := ⟨_, rfl⟩
  rw [hkk] at hkp hkd ⊢
  clear hkk hon hg3 d0 d1 d2 d3 HAw7 HAx7 HAg7 HBW
  have p0 := HAw8.out.1.cell 0 rfl
  have p1 := HAw8.out.1.cell 1 rfl
  have p2 := HAw8.out.1.cell 2 rfl
  have p3 := HAw8.out.1.cell 3 rfl
  have q0 := HAg8.out.1.cell 0 rfl
  have q1 := HAg8.out.1.cell 1 rfl
  have q2 := HAg8.out.1.cell 2 rfl
  have q3 := HAg8.out.1.cell 3 rfl
  go_wp2_with fail
  refine (eqClient_same id ga wa n gc wc zs S1 O1 x8 HAg8.out.2.1.seg HAw8.out.2.1.seg (by omega)).mono ?_
  rintro e x9 ⟨rfl, hb9⟩
  have HAw9 : Hid (CV x9 x0.heap.size w2.heap.size bw id wa n wc zs S1 O1) := HAw8.out.stays hb9
  have HAg9 : Hid (CV x9 w3.heap.size w4.heap.size bg id ga n gc zs S1 O1) := HAg8.out.stays hb9
  have HB9 : Hid (Below w0.heap.size w0 x9) := HB8.out.trans (hb9.mono HB8.out.size)
  clear hb9 p0 p1 p2 p3 q0 q1 q2 q3 HAw8 HAg8 HB8 hkp hkd
  have q0 := HAg9.out.1.cell 0 rfl
  have q1 := HAg9.out.1.cell 1 rfl
  have q2 := HAg9.out.1.cell 2 rfl
  have q3 := HAg9.out.1.cell 3 rfl
  go_wp2_with fail
  refine (markClient_any id S1 O1 w3.heap.size ga n gc 1 zs x9 HAg9.out.2.1 (by omega) (by omega)).mono ?_
  rintro e x10 ⟨rfl, hm10, hon⟩
  have HAw10 : Hid (CV x10 x0.heap.size w2.heap.size bw id wa n wc zs S1 O1) := HAw9.out.kept hon (fun q hq => .inr (by have := HAg9.out.row q hq; omega))
  have HM10 : Hid (CV x10 w3.heap.size w4.heap.size bg id ga n gc (marks 1 n) S1 O1) := HAg9.out.marked hm10 hon
  have HB10 : Hid (Below w0.heap.size w0 x10) := HB9.out.grown hon HB9.out.size (fun q hq => by have := HAg9.out.row q hq; have := HB9.out.size; omega)
  clear hm10 hon q0 q1 q2 q3 HAw9 HAg9 HB9
  have HHG : Hid (∀ W : World, CV W w3.heap.size w4.heap.size bg id ga n gc (marks 1 n) S1 O1 → Calls Tryd.prog 11 #[.agg #[.string id, .slice ga n gc, .int .i64 S1, .int .i64 O1], .int .i64 1] W fun e w' => e = .returned (.int .i64 ((1 + n : Nat) : Int)) ∧ Below W.heap.size W w') := fun W h => heldClient_any id S1 O1 w3.heap.size ga n gc 1 W h.2.1 (by omega) (by omega)
  generalize hq10 : ((1 + n : Nat) : Int) = q10 at *
  have hq10p : ¬ q10 < 0 := by omega
  have hq10d : decide (q10 < 0) = false := by simp; omega
  have hq10e : (q10 != q10) = false := by simp
  clear hq10
  have q0 := HM10.out.1.cell 0 rfl
  have q1 := HM10.out.1.cell 1 rfl
  have q2 := HM10.out.1.cell 2 rfl
  have q3 := HM10.out.1.cell 3 rfl
  go_wp2_with fail
  refine (HHG.out _ HM10.out).mono ?_
  rintro e x11 ⟨rfl, hb11⟩
  have HAw11 : Hid (CV x11 x0.heap.size w2.heap.size bw id wa n wc zs S1 O1) := HAw10.out.stays hb11
  have HM11 : Hid (CV x11 w3.heap.size w4.heap.size bg id ga n gc (marks 1 n) S1 O1) := HM10.out.stays hb11
  have HB11 : Hid (Below w0.heap.size w0 x11) := HB10.out.trans (hb11.mono HB10.out.size)
  clear hb11 q0 q1 q2 q3 HAw10 HM10 HB10
  go_upto_region 24 with fail
  refine wp_region_grow 6 [Stay.val (.agg #[.string id, .slice a n ca, .int .i64 st, .int .i64 off]), ⟨fun v W => ∃ a2 c2, v = .agg #[.string id, .slice a2 n c2, .int .i64 st, .int .i64 off] ∧ Owns W x11.heap.size a2 n c2 zs, fun ⟨a2, c2, h0, h1⟩ hb => ⟨a2, c2, h0, h1.below hb⟩⟩, Stay.val (.agg #[.int .i64 q, .int .i64 r]), Stay.val (.agg #[.int .i64 q, .int .i64 r]), ⟨fun v W => ∃ a2 c2, v = .agg #[.string id, .slice a2 n c2, .int .i64 S1, .int .i64 O1] ∧ Owns W x11.heap.size a2 n c2 zs, fun ⟨a2, c2, h0, h1⟩ hb => ⟨a2, c2, h0, h1.below hb⟩⟩, ⟨fun v W => ∃ b, v = .pointer (some ⟨b, 0, none⟩) ∧ x11.heap.size ≤ b ∧ BoxN W b 28 [.string ⟨#[]⟩, .slice none 0 0, .int .i64 0, .int .i64 0], fun ⟨b, h0, h1, h2⟩ hb => ⟨b, h0, h1, h2.stays hb⟩⟩] (by kernel_rfl) (by kernel_rfl) ?_ ?_
  · refine (all_succ (all_succ (all_succ (all_succ (all_succ (all_succ all_zero ?g0) ?g1) ?g2) ?g3) ?g4) ?g5)
    case g0 =>
      intro o ho vs W hb hd
      have HBW : Hid (Below w0.heap.size w0 W) := HB11.out.trans (hb.mono HB11.out.size)
      have HS : Hid (x11.heap.size ≤ W.heap.size) := hb.size
      have HXW : Hid (Below x11.heap.size x11 W) := hb
      clear hb
      obtain rfl := Option.some.inj ho
      clear ho hd
      have hq := (HX.out _ HBW.out).1
      have c0 := hq.cell 0 rfl
      have c1 := hq.cell 1 rfl
      have c2 := hq.cell 2 rfl
      have c3 := hq.cell 3 rfl
      clear hq
      intro K hK
      simp only [List.take, putsT, put_mk, List.setIfInBounds_toArray, List.set_cons_succ, List.set_cons_zero] at hK ⊢
      have HK : Hid _ := hK
      clear hK
      go_wp2_with fail
      exact HK.out _ _ (Below.refl _ _) rfl
    case g1 =>
      intro o ho vs W hb hd
      have HBW : Hid (Below w0.heap.size w0 W) := HB11.out.trans (hb.mono HB11.out.size)
      have HS : Hid (x11.heap.size ≤ W.heap.size) := hb.size
      have HXW : Hid (Below x11.heap.size x11 W) := hb
      clear hb
      obtain rfl := Option.some.inj ho
      have h0 : vs 0 = _ := hd 0 (by decide) (by kernel_rfl)
      clear ho hd
      intro K hK
      simp only [List.take, putsT, put_mk, List.setIfInBounds_toArray, List.set_cons_succ, List.set_cons_zero] at hK ⊢
      rw [h0] at hK ⊢
      clear h0
      have HK : Hid _ := hK
      clear hK
      go_wp2_with fail
      refine (HTs.out _ HBW.out).mono ?_
      rintro e w' ⟨⟨g, rfl, ho⟩, hb⟩
      go_wp2_with fail
      exact HK.out _ _ hb ⟨_, _, rfl, ho.low HS.out⟩
    case g2 =>
      intro o ho vs W hb hd
      have HBW : Hid (Below w0.heap.size w0 W) := HB11.out.trans (hb.mono HB11.out.size)
      have HS : Hid (x11.heap.size ≤ W.heap.size) := hb.size
      have HXW : Hid (Below x11.heap.size x11 W) := hb
      clear hb
      obtain rfl := Option.some.inj ho
      clear ho hd
      have hq := (HX.out _ HBW.out).2.2.2.1
      have c0 := hq.cell 0 rfl
      have c1 := hq.cell 1 rfl
      clear hq
      intro K hK
      simp only [List.take, putsT, put_mk, List.setIfInBounds_toArray, List.set_cons_succ, List.set_cons_zero] at hK ⊢
      have HK : Hid _ := hK
      clear hK
      go_wp2_with fail
      exact HK.out _ _ (Below.refl _ _) rfl
    case g3 =>
      intro o ho vs W hb hd
      have HBW : Hid (Below w0.heap.size w0 W) := HB11.out.trans (hb.mono HB11.out.size)
      have HS : Hid (x11.heap.size ≤ W.heap.size) := hb.size
      have HXW : Hid (Below x11.heap.size x11 W) := hb
      clear hb
      obtain rfl := Option.some.inj ho
      have h2 : vs 2 = _ := hd 2 (by decide) (by kernel_rfl)
      clear ho hd
      intro K hK
      simp only [List.take, putsT, put_mk, List.setIfInBounds_toArray, List.set_cons_succ, List.set_cons_zero] at hK ⊢
      rw [h2] at hK ⊢
      clear h2
      have HK : Hid _ := hK
      clear hK
      go_wp2_with fail
      refine (toResp_any q r W).mono ?_
      rintro e w' ⟨rfl, hb⟩
      go_wp2_with fail
      exact HK.out _ _ hb rfl
    case g4 =>
      intro o ho vs W hb hd
      have HBW : Hid (Below w0.heap.size w0 W) := HB11.out.trans (hb.mono HB11.out.size)
      have HS : Hid (x11.heap.size ≤ W.heap.size) := hb.size
      have HXW : Hid (Below x11.heap.size x11 W) := hb
      clear hb
      obtain rfl := Option.some.inj ho
      obtain ⟨a2, c2, h1, ho2⟩ := hd 1 (by decide) (by kernel_rfl)
      have h3 : vs 3 = _ := hd 3 (by decide) (by kernel_rfl)
      clear ho hd
      intro K hK
      simp only [List.take, putsT, put_mk, List.setIfInBounds_toArray, List.set_cons_succ, List.set_cons_zero] at hK ⊢
      rw [h1, h3] at hK ⊢
      clear h1 h3
      have HK : Hid _ := hK
      clear hK
      go_wp2_with fail
      refine (HI.out _ _ _ W HBW.out ho2).mono ?_
      rintro e w' ⟨⟨a4, c4, rfl, ho⟩, hb⟩
      go_wp2_with fail
      exact HK.out _ _ hb ⟨_, _, rfl, ho.low HS.out⟩
    case g5 =>
      intro o ho vs W hb hd
      have HBW : Hid (Below w0.heap.size w0 W) := HB11.out.trans (hb.mono HB11.out.size)
      have HS : Hid (x11.heap.size ≤ W.heap.size) := hb.size
      have HXW : Hid (Below x11.heap.size x11 W) := hb
      clear hb
      obtain rfl := Option.some.inj ho
      clear ho hd
      intro K hK
      simp only [List.take, putsT, put_mk, List.setIfInBounds_toArray, List.set_cons_succ, List.set_cons_zero] at hK ⊢
      have HK : Hid _ := hK
      clear hK
      go_wp2_with fail
      exact HK.out _ _ ((Below.refl _ _).alloc (Nat.le_refl _) _) ⟨_, rfl, HS.out, BoxN.new _ _ _⟩
  intro vs W hb hd
  have HBW : Hid (Below w0.heap.size w0 W) := HB11.out.trans (hb.mono HB11.out.size)
  have HS : Hid (x11.heap.size ≤ W.heap.size) := hb.size
  have HXW : Hid (Below x11.heap.size x11 W) := hb
  clear hb
  simp only [List.take, List.drop, putsT, put_mk, List.setIfInBounds_toArray, List.set_cons_succ, List.set_cons_zero]
  obtain ⟨ha, hc, hv, hov⟩ := hd 4 (by decide)
  obtain ⟨bh, hbv, hlo, hbx⟩ := hd 5 (by decide)
  rw [hv, hbv]
  clear hv hbv hd
  have d0 := hbx.cell 0 rfl
  have d1 := hbx.cell 1 rfl
  have d2 := hbx.cell 2 rfl
  have d3 := hbx.cell 3 rfl
  have f0 := hbx.frozen 0
  have f1 := hbx.frozen 1
  have f2 := hbx.frozen 2
  have f3 := hbx.frozen 3
  obtain ⟨w13, hw13⟩ : ∃ w13, (((W.setCell ⟨bh, 0, none⟩ (.string id)).setCell ⟨bh, 1, none⟩ (.slice ha n hc)).setCell ⟨bh, 2, none⟩ (.int .i64 S1)).setCell ⟨bh, 3, none⟩ (.int .i64 O1) = w13 := ⟨_, rfl⟩
  have HAh : Hid (CV w13 x11.heap.size w13.heap.size bh id ha n hc zs S1 O1) := by
    have h := CV.put (st := S1) (off := O1) (id := id) (vs := []) hbx hov hlo
    rw [hw13] at h
    show CV _ _ _ _ _ _ _ _ _ _ _
    refine h.up ?_
    rw [← hw13]
    simp
  have HGw13 : Hid (Below x11.heap.size x11 w13) := by
    show Below _ _ _
    rw [← hw13]
    exact (((HXW.out.setCell hlo _).setCell hlo _).setCell hlo _).setCell hlo _
  have HEw13 : Hid (_ = w13) := hw13
  clear hw13 hbx hov hlo HS
  go_upto_region 25 with fail
  rw [HEw13.out]
  clear HEw13 d0 d1 d2 d3 f0 f1 f2 f3
  have HB13 : Hid (Below w0.heap.size w0 w13) := HB11.out.trans (HGw13.out.mono HB11.out.size)
  have HAw13 : Hid (CV w13 x0.heap.size w2.heap.size bw id wa n wc zs S1 O1) := HAw11.out.stays HGw13.out
  have HM13 : Hid (CV w13 w3.heap.size w4.heap.size bg id ga n gc (marks 1 n) S1 O1) := HM11.out.stays HGw13.out
  clear HGw13 HAw11 HM11 HB11
  have p0 := HAw13.out.1.cell 0 rfl
  have p1 := HAw13.out.1.cell 1 rfl
  have p2 := HAw13.out.1.cell 2 rfl
  have p3 := HAw13.out.1.cell 3 rfl
  have q0 := HAh.out.1.cell 0 rfl
  have q1 := HAh.out.1.cell 1 rfl
  have q2 := HAh.out.1.cell 2 rfl
  have q3 := HAh.out.1.cell 3 rfl
  go_wp2_with fail
  refine (eqClient_same id ha wa n hc wc zs S1 O1 w13 HAh.out.2.1.seg HAw13.out.2.1.seg (by omega)).mono ?_
  rintro e x14 ⟨rfl, hb14⟩
  have HM14 : Hid (CV x14 w3.heap.size w4.heap.size bg id ga n gc (marks 1 n) S1 O1) := HM13.out.stays hb14
  have HB14 : Hid (Below w0.heap.size w0 x14) := HB13.out.trans (hb14.mono HB13.out.size)
  clear hb14 p0 p1 p2 p3 q0 q1 q2 q3 HAw13 HAh HM13 HB13
  have q0 := HM14.out.1.cell 0 rfl
  have q1 := HM14.out.1.cell 1 rfl
  have q2 := HM14.out.1.cell 2 rfl
  have q3 := HM14.out.1.cell 3 rfl
  go_wp2_with fail
  refine (HHG.out _ HM14.out).mono ?_
  rintro e x15 ⟨rfl, hb15⟩
  have HEn : Hid (Below w.heap.size w x15) := (HX.out _ (HB14.out.trans (hb15.mono HB14.out.size))).2.2.1
  clear hb15 q0 q1 q2 q3 HM14 HB14
  go_wp2_with fail
  go_ret
  exact ⟨rfl, HEn.out⟩

end Go.Proofs.YtlalebaaabdihaxDoor
