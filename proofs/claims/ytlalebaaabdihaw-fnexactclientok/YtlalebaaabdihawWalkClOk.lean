/- The walk of the law FnExactClientOk. -/
import Derived.Test.YtlalebaaabdihawClTo
import Derived.Test.YtlalebaaabdihawClV
import Derived.Test.YtlalebaaabdihawClOkS
import Derived.Test.YtlalebaaabdihawClOkI
import Derived.Test.YtlalebaaabdihawGrowReg
import Derived.Deep.RegionHeld3
import Derived.Deep.CutBlock
namespace Go.Proofs.Ytlalebaaabdihaw
open Go.RowKit
set_option linter.unusedVariables false

set_option maxRecDepth 10000 in
set_option maxHeartbeats 6400000 in
theorem clOkWalk (id : ByteArray) (a : Option Addr) (n ca : Nat) (zs : List Int) (st off : Int) (w : World) (hi : id.size ≤ maxLen) (hl : n ≤ maxLen) (hs : Seg w a n zs) :
    Calls Try.prog 5 #[.agg #[.string id, .slice a n ca, .int .i64 st, .int .i64 off]] w fun e w' => e = .returned (.bool true) ∧ Below w.heap.size w w' := by
  have hmm : maxLen < 9223372036854775808 := by decide
  obtain ⟨w0, hw0⟩ : ∃ w0, w.alloc (.cells #[.string id, .slice a n ca, .int .i64 st, .int .i64 off] 34) = w0 := ⟨_, rfl⟩
  have HE : Hid (w.alloc (.cells #[.string id, .slice a n ca, .int .i64 st, .int .i64 off] 34) = w0) := hw0
  have hB0 : Below w.heap.size w w0 := by rw [← hw0]; exact (Below.refl _ _).alloc (Nat.le_refl _) _
  have hQ0 : BoxN w0 w.heap.size 34 [.string id, .slice a n ca, .int .i64 st, .int .i64 off] := by rw [← hw0]; exact BoxN.new _ _ _
  have hww : w.heap.size < w0.heap.size := hQ0.lt
  have HX : Hid (∀ W, Below w0.heap.size w0 W → BoxN W w.heap.size 34 [.string id, .slice a n ca, .int .i64 st, .int .i64 off] ∧ Seg W a n zs ∧ Below w.heap.size w W) := fun W hb => ⟨hQ0.stays hb, (hs.below hB0).below hb, hB0.trans (hb.mono hB0.size)⟩
  have HA0 : Hid (Below w0.heap.size w0 w0) := Below.refl _ _
  clear hw0 hs hQ0 hB0
  have c0 := (HX.out _ HA0.out).1.cell 0 rfl
  have c1 := (HX.out _ HA0.out).1.cell 1 rfl
  have c2 := (HX.out _ HA0.out).1.cell 2 rfl
  have c3 := (HX.out _ HA0.out).1.cell 3 rfl
  go_enter Try.func5, Try.ntmps5
  go_upto_region 1 with fail
  rw [HE.out]
  clear HE
  go_wp2_with fail
  refine (szClient_any id a n ca st off 1048576 w0 (by omega) (by omega) hi hl).mono ?_
  rintro e x0 ⟨⟨L, rfl, hL⟩, hb0⟩
  have HB0 : Hid (Below w0.heap.size w0 x0) := hb0
  clear hb0 c0 c1 c2 c3
  by_cases hneg : L < 0
  · have HBw : Hid (Below w.heap.size w x0) := (HX.out _ HB0.out).2.2
    clear hL
    go_wp2_with fail
    go_ret
    exact ⟨rfl, HBw.out⟩
  have hn1 : n ≤ 1048576 := by omega
  clear hL
  have HTs : Hid (∀ W, Below w0.heap.size w0 W → Calls Try.prog 19 #[.agg #[.string id, .slice a n ca, .int .i64 st, .int .i64 off]] W fun e w' => (∃ g, e = .returned (.agg #[.string id, .slice (some ⟨g, 0, none⟩) n n, .int .i64 st, .int .i64 off]) ∧ Owns w' W.heap.size (some ⟨g, 0, none⟩) n n zs) ∧ Below W.heap.size W w') := fun W hb => toClient_any id a n ca zs st off W (HX.out _ hb).2.1 hn1
  have c0 := (HX.out _ HB0.out).1.cell 0 rfl
  have c1 := (HX.out _ HB0.out).1.cell 1 rfl
  have c2 := (HX.out _ HB0.out).1.cell 2 rfl
  have c3 := (HX.out _ HB0.out).1.cell 3 rfl
  go_wp2_with fail
  refine (HTs.out _ HB0.out).mono ?_
  rintro e x1 ⟨⟨gx1, rfl, ho⟩, hb⟩
  have HB1 : Hid (Below w0.heap.size w0 x1) := HB0.out.trans (hb.mono HB0.out.size)
  clear ho hb c0 c1 c2 c3
  obtain ⟨B, hB⟩ : ∃ B, okC id n st off = B := ⟨_, rfl⟩
  have hBB : (B != B) = false := by simp
  go_wp2_with fail
  refine (specClOk_any id _ n n st off x1 hi (by omega)).mono ?_
  rw [hB]
  rintro e x2 ⟨rfl, hb⟩
  have HB2 : Hid (Below w0.heap.size w0 x2) := HB1.out.trans (hb.mono HB1.out.size)
  clear hb HB1 HB0
  have c0 := (HX.out _ HB2.out).1.cell 0 rfl
  have c1 := (HX.out _ HB2.out).1.cell 1 rfl
  have c2 := (HX.out _ HB2.out).1.cell 2 rfl
  have c3 := (HX.out _ HB2.out).1.cell 3 rfl
  go_wp2_with fail
  refine (HTs.out _ HB2.out).mono ?_
  rintro e x3 ⟨⟨g3, rfl, ho⟩, hb⟩
  obtain ⟨w3, hw3⟩ : ∃ w3, x3.alloc (.cells #[.string id, .slice (some ⟨g3, 0, none⟩) n n, .int .i64 st, .int .i64 off] 28) = w3 := ⟨_, rfl⟩
  obtain ⟨bx, hbx⟩ : ∃ bx, x3.heap.size = bx := ⟨_, rfl⟩
  have HAx : Hid (CV w3 x2.heap.size w3.heap.size bx id (some ⟨g3, 0, none⟩) n n zs st off) := by
    have h := CV.new (id := id) (st := st) (off := off) ho hb.size
    show CV _ _ _ _ _ _ _ _ _ _ _
    rw [← hw3, ← hbx, World.size_alloc]
    exact h
  have HG : Hid (Below x2.heap.size x2 w3) := by
    show Below _ _ _
    rw [← hw3]
    exact hb.alloc hb.size _
  have HB3 : Hid (Below w0.heap.size w0 w3) := HB2.out.trans (HG.out.mono HB2.out.size)
  have hz23 : x2.heap.size ≤ w3.heap.size := HG.out.size
  have HE3 : Hid (_ = w3) := hw3
  have HEb : Hid (_ = bx) := hbx
  clear hw3 hbx ho hb HG HB2 c0 c1 c2 c3
  go_upto_region 7 with fail
  rw [HE3.out, HEb.out]
  clear HE3 HEb
  have q0 := HAx.out.1.cell 0 rfl
  have q1 := HAx.out.1.cell 1 rfl
  have q2 := HAx.out.1.cell 2 rfl
  have q3 := HAx.out.1.cell 3 rfl
  go_wp2_with fail
  refine (implClOk_any id _ n n st off w3 hi (by omega)).mono ?_
  rw [hB]
  rintro e x5 ⟨rfl, hb5⟩
  have HAx5 : Hid (CV x5 x2.heap.size w3.heap.size bx id (some ⟨g3, 0, none⟩) n n zs st off) := HAx.out.stays hb5
  have HB5 : Hid (Below w0.heap.size w0 x5) := HB3.out.trans (hb5.mono HB3.out.size)
  clear hb5 HAx HB3 hB q0 q1 q2 q3
  go_upto_region 10 with fail
  refine wp_region_grow 4 [Stay.val (.agg #[.string id, .slice (some ⟨g3, 0, none⟩) n n, .int .i64 st, .int .i64 off]), Stay.val (.agg #[.string id, .slice a n ca, .int .i64 st, .int .i64 off]), ⟨fun v W => ∃ a2 c2, v = .agg #[.string id, .slice a2 n c2, .int .i64 st, .int .i64 off] ∧ Owns W x5.heap.size a2 n c2 zs, fun ⟨a2, c2, h0, h1⟩ hb => ⟨a2, c2, h0, h1.below hb⟩⟩, Stay.val (.bool true)] (by kernel_rfl) (by kernel_rfl) ?_ ?_
  · refine (all_succ (all_succ (all_succ (all_succ all_zero ?g0) ?g1) ?g2) ?g3)
    case g0 =>
      intro o ho vs W hb hd
      have HBW : Hid (Below w0.heap.size w0 W) := HB5.out.trans (hb.mono HB5.out.size)
      have HS : Hid (x5.heap.size ≤ W.heap.size) := hb.size
      have HXW : Hid (Below x5.heap.size x5 W) := hb
      clear hb
      obtain rfl := Option.some.inj ho
      clear ho hd
      have hq := (HAx5.out.stays HXW.out).1
      have c0 := hq.cell 0 rfl
      have c1 := hq.cell 1 rfl
      have c2 := hq.cell 2 rfl
      have c3 := hq.cell 3 rfl
      clear hq
      intro K hK
      simp only [List.take, putsT, put_mk, List.setIfInBounds_toArray, List.set_cons_succ, List.set_cons_zero] at hK ⊢
      have HK : Hid _ := hK
      clear hK
      go_wp2_with fail
      exact HK.out _ _ (Below.refl _ _) rfl
    case g1 =>
      intro o ho vs W hb hd
      have HBW : Hid (Below w0.heap.size w0 W) := HB5.out.trans (hb.mono HB5.out.size)
      have HS : Hid (x5.heap.size ≤ W.heap.size) := hb.size
      have HXW : Hid (Below x5.heap.size x5 W) := hb
      clear hb
      obtain rfl := Option.some.inj ho
      clear ho hd
      have hq := (HX.out _ HBW.out).1
      have c0 := hq.cell 0 rfl
      have c1 := hq.cell 1 rfl
      have c2 := hq.cell 2 rfl
      have c3 := hq.cell 3 rfl
      clear hq
      intro K hK
      simp only [List.take, putsT, put_mk, List.setIfInBounds_toArray, List.set_cons_succ, List.set_cons_zero] at hK ⊢
      have HK : Hid _ := hK
      clear hK
      go_wp2_with fail
      exact HK.out _ _ (Below.refl _ _) rfl
    case g2 =>
      intro o ho vs W hb hd
      have HBW : Hid (Below w0.heap.size w0 W) := HB5.out.trans (hb.mono HB5.out.size)
      have HS : Hid (x5.heap.size ≤ W.heap.size) := hb.size
      have HXW : Hid (Below x5.heap.size x5 W) := hb
      clear hb
      obtain rfl := Option.some.inj ho
      have h1 : vs 1 = _ := hd 1 (by decide) (by kernel_rfl)
      clear ho hd
      intro K hK
      simp only [List.take, putsT, put_mk, List.setIfInBounds_toArray, List.set_cons_succ, List.set_cons_zero] at hK ⊢
      rw [h1] at hK ⊢
      clear h1
      have HK : Hid _ := hK
      clear hK
      go_wp2_with fail
      refine (HTs.out _ HBW.out).mono ?_
      rintro e w' ⟨⟨g, rfl, ho⟩, hb⟩
      go_wp2_with fail
      exact HK.out _ _ hb ⟨_, _, rfl, ho.low HS.out⟩
    case g3 =>
      intro o ho vs W hb hd
      have HBW : Hid (Below w0.heap.size w0 W) := HB5.out.trans (hb.mono HB5.out.size)
      have HS : Hid (x5.heap.size ≤ W.heap.size) := hb.size
      have HXW : Hid (Below x5.heap.size x5 W) := hb
      clear hb
      obtain rfl := Option.some.inj ho
      have h0 : vs 0 = _ := hd 0 (by decide) (by kernel_rfl)
      obtain ⟨a2, c2, h2, ho2⟩ := hd 2 (by decide) (by kernel_rfl)
      clear ho hd
      intro K hK
      simp only [List.take, putsT, put_mk, List.setIfInBounds_toArray, List.set_cons_succ, List.set_cons_zero] at hK ⊢
      rw [h0, h2] at hK ⊢
      clear h0 h2
      have HK : Hid _ := hK
      clear hK
      go_wp2_with fail
      refine (eqClient_same id (some ⟨g3, 0, none⟩) a2 n n c2 zs st off W (HAx5.out.stays HXW.out).2.1.seg ho2.seg (by omega)).mono ?_
      rintro e w' ⟨rfl, hb⟩
      go_wp2_with fail
      exact HK.out _ _ hb rfl
  intro vs W hb hd
  have HBW : Hid (Below w0.heap.size w0 W) := HB5.out.trans (hb.mono HB5.out.size)
  have HS : Hid (x5.heap.size ≤ W.heap.size) := hb.size
  have HXW : Hid (Below x5.heap.size x5 W) := hb
  clear hb
  simp only [List.take, List.drop, putsT, put_mk, List.setIfInBounds_toArray, List.set_cons_succ, List.set_cons_zero]
  have h3 := hd 3 (by decide)
  have h3 : vs 3 = .bool true := h3
  rw [h3]
  clear h3 hd HS
  have HEn : Hid (Below w.heap.size w W) := (HX.out _ HBW.out).2.2
  clear HAx5 HB5 HXW HBW
  go_wp2_with fail
  go_ret
  exact ⟨rfl, HEn.out⟩

end Go.Proofs.Ytlalebaaabdihaw
