/- The walk of the law FnExactClientNew. -/
import Derived.Test.YtlalebaaabdihawClTo
import Derived.Test.YtlalebaaabdihawClMk
import Derived.Test.YtlalebaaabdihawClV
import Derived.Test.YtlalebaaabdihawClNewS
import Derived.Test.YtlalebaaabdihawClNewI
import Derived.Deep.CutBlock
namespace Go.Proofs.Ytlalebaaabdihaw
open Go.RowKit
set_option linter.unusedVariables false

set_option maxRecDepth 10000 in
set_option maxHeartbeats 6400000 in
theorem clNewWalk (id : ByteArray) (a : Option Addr) (n ca : Nat) (zs : List Int) (w : World) (hi : id.size ≤ maxLen) (hs : Seg w a n zs) :
    Calls Try.prog 4 #[.string id, .slice a n ca] w fun e w' => e = .returned (.bool true) ∧ Below w.heap.size w w' := by
  have hmm : maxLen < 9223372036854775808 := by decide
  have HS : Hid (Seg w a n zs) := hs
  have HA0 : Hid (Below w.heap.size w w) := Below.refl _ _
  clear hs
  by_cases hid : 1048576 < (id.size : Int)
  · go_enter Try.func4, Try.ntmps4
    go_wp2_with fail
    go_ret
    exact ⟨rfl, HA0.out⟩
  have hidd : decide (1048576 < (id.size : Int)) = false := by simpa using hid
  by_cases hbig : 1048576 < (n : Int)
  · go_enter Try.func4, Try.ntmps4
    go_wp2_with fail
    go_ret
    exact ⟨rfl, HA0.out⟩
  have hn1 : n ≤ 1048576 := by omega
  have hnd : decide (1048576 < (n : Int)) = false := by simpa using hbig
  have HTs : Hid (∀ W, Below w.heap.size w W → Calls Try.prog 12 #[.slice a n ca] W fun e w' => (∃ g, e = .returned (.slice (some ⟨g, 0, none⟩) n n) ∧ Owns w' W.heap.size (some ⟨g, 0, none⟩) n n zs) ∧ Below W.heap.size W w') := fun W hb => by
    refine (toByteS_any a n ca zs W (HS.out.below hb) (by omega)).mono ?_
    rintro e w' ⟨rfl, ho, hb'⟩
    exact ⟨⟨_, rfl, ho, HS.out.2.1⟩, hb'⟩
  obtain ⟨RI, h1⟩ : ∃ x, newI id n = x := ⟨_, rfl⟩
  obtain ⟨RN, h2⟩ : ∃ x, newL id n = x := ⟨_, rfl⟩
  obtain ⟨RZ, h3⟩ : ∃ x, newZ id n zs = x := ⟨_, rfl⟩
  obtain ⟨S1, h4⟩ : ∃ x, newS id n = x := ⟨_, rfl⟩
  have hRN : RN ≤ 1048576 := by have := newL_le id n; omega
  have HP : Hid (∀ (lo g : Nat) (W : World), Below w.heap.size w W → Owns W lo (some ⟨g, 0, none⟩) n n zs → Calls Try.prog 11 #[.string id, .slice (some ⟨g, 0, none⟩) n n] W fun e w' => (∃ a2 c2, e = .returned (.agg #[.string RI, .slice a2 RN c2, .int .i64 S1, .int .i64 0]) ∧ Owns w' W.heap.size a2 RN c2 RZ) ∧ Below W.heap.size W w') := fun lo g W hb ho => by
    have h := specClNew_any id (some ⟨g, 0, none⟩) n n zs W ho.seg hi hn1
    rw [h1, h2, h3, h4] at h
    exact h
  have HI : Hid (∀ (lo g : Nat) (W : World), Below w.heap.size w W → Owns W lo (some ⟨g, 0, none⟩) n n zs → Calls Try.prog 13 #[.string id, .slice (some ⟨g, 0, none⟩) n n] W fun e w' => (∃ a2 c2, e = .returned (.agg #[.string RI, .slice a2 RN c2, .int .i64 S1, .int .i64 0]) ∧ Owns w' W.heap.size a2 RN c2 RZ) ∧ Below W.heap.size W w') := fun lo g W hb ho => by
    have h := implClNew_any id (some ⟨g, 0, none⟩) n n zs W ho.seg hi hn1
    rw [h1, h2, h3, h4] at h
    exact h
  clear h1 h2 h3 h4
  go_enter Try.func4, Try.ntmps4
  go_wp2_with fail
  refine (HTs.out _ HA0.out).mono ?_
  rintro e x1 ⟨⟨g1, rfl, ho⟩, hb⟩
  have HB1 : Hid (Below w.heap.size w x1) := hb
  have HO1 : Hid (Owns x1 w.heap.size (some ⟨g1, 0, none⟩) n n zs) := ho
  have hz01 : w.heap.size ≤ x1.heap.size := hb.size
  clear ho hb HA0
  go_wp2_with fail
  refine (HP.out _ _ x1 HB1.out HO1.out).mono ?_
  rintro e zw2 ⟨⟨wa, wc, rfl, ho⟩, hb⟩
  obtain ⟨w2, hw2⟩ : ∃ w2, zw2.alloc (.cells #[.string RI, .slice wa RN wc, .int .i64 S1, .int .i64 0] 28) = w2 := ⟨_, rfl⟩
  obtain ⟨bw, hbw⟩ : ∃ bw, zw2.heap.size = bw := ⟨_, rfl⟩
  have HAw : Hid (CV w2 x1.heap.size w2.heap.size bw RI wa RN wc RZ S1 0) := by
    have h := CV.new (id := RI) (st := S1) (off := 0) ho hb.size
    show CV _ _ _ _ _ _ _ _ _ _ _
    rw [← hw2, ← hbw, World.size_alloc]
    exact h
  have HGw2 : Hid (Below x1.heap.size x1 w2) := by
    show Below _ _ _
    rw [← hw2]
    exact hb.alloc hb.size _
  have HEw2 : Hid (_ = w2) := hw2
  have HEbw : Hid (_ = bw) := hbw
  clear hw2 hbw ho hb
  go_upto_region 6 with fail
  rw [HEw2.out, HEbw.out]
  clear HEw2 HEbw
  have HB2 : Hid (Below w.heap.size w w2) := HB1.out.trans (HGw2.out.mono HB1.out.size)
  have hz12 : x1.heap.size ≤ w2.heap.size := HGw2.out.size
  clear HP HGw2 HB1 HO1
  go_wp2_with fail
  refine (HTs.out _ HB2.out).mono ?_
  rintro e x3 ⟨⟨g3, rfl, ho⟩, hb⟩
  have HB3 : Hid (Below w.heap.size w x3) := HB2.out.trans (hb.mono HB2.out.size)
  have HO3 : Hid (Owns x3 w2.heap.size (some ⟨g3, 0, none⟩) n n zs) := ho
  have HAw3 : Hid (CV x3 x1.heap.size w2.heap.size bw RI wa RN wc RZ S1 0) := HAw.out.stays hb
  have hz23 : w2.heap.size ≤ x3.heap.size := hb.size
  clear ho hb HB2 HAw
  go_wp2_with fail
  refine (HI.out _ _ x3 HB3.out HO3.out).mono ?_
  rintro e zw4 ⟨⟨ga, gc, rfl, ho⟩, hb⟩
  obtain ⟨w4, hw4⟩ : ∃ w4, zw4.alloc (.cells #[.string RI, .slice ga RN gc, .int .i64 S1, .int .i64 0] 28) = w4 := ⟨_, rfl⟩
  obtain ⟨bg, hbg⟩ : ∃ bg, zw4.heap.size = bg := ⟨_, rfl⟩
  have HAg : Hid (CV w4 x3.heap.size w4.heap.size bg RI ga RN gc RZ S1 0) := by
    have h := CV.new (id := RI) (st := S1) (off := 0) ho hb.size
    show CV _ _ _ _ _ _ _ _ _ _ _
    rw [← hw4, ← hbg, World.size_alloc]
    exact h
  have HGw4 : Hid (Below x3.heap.size x3 w4) := by
    show Below _ _ _
    rw [← hw4]
    exact hb.alloc hb.size _
  have HEw4 : Hid (_ = w4) := hw4
  have HEbg : Hid (_ = bg) := hbg
  clear hw4 hbg ho hb
  go_upto_region 8 with fail
  rw [HEw4.out, HEbg.out]
  clear HEw4 HEbg
  have HB4 : Hid (Below w.heap.size w w4) := HB3.out.trans (HGw4.out.mono HB3.out.size)
  have HO4 : Hid (Owns w4 w2.heap.size (some ⟨g3, 0, none⟩) n n zs) := HO3.out.below HGw4.out
  have HAw4 : Hid (CV w4 x1.heap.size w2.heap.size bw RI wa RN wc RZ S1 0) := HAw3.out.stays HGw4.out
  have hz34 : x3.heap.size ≤ w4.heap.size := HGw4.out.size
  have hg3 : g3 < x3.heap.size := (HO3.out.lt g3 rfl).2
  have hg2 : w2.heap.size ≤ g3 := (HO3.out.lt g3 rfl).1
  clear HB3 HGw4 HO3 HAw3
  have p0 := HAw4.out.1.cell 0 rfl
  have p1 := HAw4.out.1.cell 1 rfl
  have p2 := HAw4.out.1.cell 2 rfl
  have p3 := HAw4.out.1.cell 3 rfl
  have q0 := HAg.out.1.cell 0 rfl
  have q1 := HAg.out.1.cell 1 rfl
  have q2 := HAg.out.1.cell 2 rfl
  have q3 := HAg.out.1.cell 3 rfl
  go_wp2_with fail
  refine (eqClient_same RI ga wa RN gc wc RZ S1 0 w4 HAg.out.2.1.seg HAw4.out.2.1.seg (by omega)).mono ?_
  rintro e x5 ⟨rfl, hb⟩
  have HB5 : Hid (Below w.heap.size w x5) := HB4.out.trans (hb.mono HB4.out.size)
  have HO5 : Hid (Owns x5 w2.heap.size (some ⟨g3, 0, none⟩) n n zs) := HO4.out.below hb
  have HAw5 : Hid (CV x5 x1.heap.size w2.heap.size bw RI wa RN wc RZ S1 0) := HAw4.out.stays hb
  have HAg5 : Hid (CV x5 x3.heap.size w4.heap.size bg RI ga RN gc RZ S1 0) := HAg.out.stays hb
  clear hb HB4 HO4 HAw4 HAg p0 p1 p2 p3 q0 q1 q2 q3
  go_wp2_with fail
  refine (HTs.out _ HB5.out).mono ?_
  rintro e x6 ⟨⟨g6, rfl, ho⟩, hb⟩
  have HB6 : Hid (Below w.heap.size w x6) := HB5.out.trans (hb.mono HB5.out.size)
  have HO6 : Hid (Owns x6 w2.heap.size (some ⟨g3, 0, none⟩) n n zs) := HO5.out.below hb
  have HP6 : Hid (Seg x6 (some ⟨g6, 0, none⟩) n zs) := ho.seg
  have HAw6 : Hid (CV x6 x1.heap.size w2.heap.size bw RI wa RN wc RZ S1 0) := HAw5.out.stays hb
  have HAg6 : Hid (CV x6 x3.heap.size w4.heap.size bg RI ga RN gc RZ S1 0) := HAg5.out.stays hb
  clear hb ho HB5 HO5 HAw5 HAg5
  go_wp2_with fail
  refine (eqByteS_same (some ⟨g3, 0, none⟩) (some ⟨g6, 0, none⟩) n n n zs x6 HO6.out.seg HP6.out (by omega)).mono ?_
  rintro e x7 ⟨rfl, st1⟩
  have hb : Below x6.heap.size x6 x7 := Still.below st1 (Below.refl _ _)
  have HB7 : Hid (Below w.heap.size w x7) := HB6.out.trans (hb.mono HB6.out.size)
  have HO7 : Hid (Owns x7 w2.heap.size (some ⟨g3, 0, none⟩) n n zs) := HO6.out.below hb
  have HAw7 : Hid (CV x7 x1.heap.size w2.heap.size bw RI wa RN wc RZ S1 0) := HAw6.out.stays hb
  have HAg7 : Hid (CV x7 x3.heap.size w4.heap.size bg RI ga RN gc RZ S1 0) := HAg6.out.stays hb
  clear hb st1 HB6 HO6 HAw6 HAg6 HP6
  go_wp2_with fail
  refine (mark_any w2.heap.size (some ⟨g3, 0, none⟩) n n 1 zs x7 HO7.out (by omega) (by omega)).mono ?_
  rintro e x8 ⟨rfl, _, hon⟩
  have HAw8 : Hid (CV x8 x1.heap.size w2.heap.size bw RI wa RN wc RZ S1 0) := HAw7.out.kept hon (fun q hq => by injection hq with hq; subst hq; exact .inr hg2)
  have HAg8 : Hid (CV x8 x3.heap.size w4.heap.size bg RI ga RN gc RZ S1 0) := HAg7.out.kept hon (fun q hq => by injection hq with hq; subst hq; exact .inl hg3)
  have HB8 : Hid (Below w.heap.size w x8) := HB7.out.grown hon HB7.out.size (fun q hq => by injection hq with hq; subst hq; exact Nat.le_trans (Nat.le_trans hz01 hz12) hg2)
  have hkp : ¬ ((1 + n : Nat) : Int) < 0 := by omega
  have hkd : decide (((1 + n : Nat) : Int) < 0) = false := by simp; omega
  obtain ⟨kk, hkk⟩ : ∃ kk, 1 + n = kk := ⟨_, rfl⟩
  rw [hkk] at hkp hkd ⊢
  clear hkk hon HAw7 HAg7 HB7 HO7
  have p0 := HAw8.out.1.cell 0 rfl
  have p1 := HAw8.out.1.cell 1 rfl
  have p2 := HAw8.out.1.cell 2 rfl
  have p3 := HAw8.out.1.cell 3 rfl
  have q0 := HAg8.out.1.cell 0 rfl
  have q1 := HAg8.out.1.cell 1 rfl
  have q2 := HAg8.out.1.cell 2 rfl
  have q3 := HAg8.out.1.cell 3 rfl
  go_wp2_with fail
  refine (eqClient_same RI ga wa RN gc wc RZ S1 0 x8 HAg8.out.2.1.seg HAw8.out.2.1.seg (by omega)).mono ?_
  rintro e x9 ⟨rfl, hb⟩
  have HB9 : Hid (Below w.heap.size w x9) := HB8.out.trans (hb.mono HB8.out.size)
  have HAw9 : Hid (CV x9 x1.heap.size w2.heap.size bw RI wa RN wc RZ S1 0) := HAw8.out.stays hb
  have HAg9 : Hid (CV x9 x3.heap.size w4.heap.size bg RI ga RN gc RZ S1 0) := HAg8.out.stays hb
  clear hb HB8 HAw8 HAg8 hkp hkd p0 p1 p2 p3 q0 q1 q2 q3
  have q0 := HAg9.out.1.cell 0 rfl
  have q1 := HAg9.out.1.cell 1 rfl
  have q2 := HAg9.out.1.cell 2 rfl
  have q3 := HAg9.out.1.cell 3 rfl
  go_wp2_with fail
  refine (markClient_any RI S1 0 x3.heap.size ga RN gc 1 RZ x9 HAg9.out.2.1 (by omega) (by omega)).mono ?_
  rintro e x10 ⟨rfl, hm10, hon⟩
  have HAw10 : Hid (CV x10 x1.heap.size w2.heap.size bw RI wa RN wc RZ S1 0) := HAw9.out.kept hon (fun q hq => .inr (by have := HAg9.out.row q hq; omega))
  have HM10 : Hid (CV x10 x3.heap.size w4.heap.size bg RI ga RN gc (marks 1 RN) S1 0) := HAg9.out.marked hm10 hon
  have HB10 : Hid (Below w.heap.size w x10) := HB9.out.grown hon HB9.out.size (fun q hq => by have := HAg9.out.row q hq; omega)
  clear hm10 hon q0 q1 q2 q3 HAw9 HAg9 HB9
  have HHG : Hid (∀ W : World, CV W x3.heap.size w4.heap.size bg RI ga RN gc (marks 1 RN) S1 0 → Calls Try.prog 16 #[.agg #[.string RI, .slice ga RN gc, .int .i64 S1, .int .i64 0], .int .i64 1] W fun e w' => e = .returned (.int .i64 ((1 + RN : Nat) : Int)) ∧ Below W.heap.size W w') := fun W h => heldClient_any RI S1 0 x3.heap.size ga RN gc 1 W h.2.1 (by omega) (by omega)
  generalize hq10 : ((1 + RN : Nat) : Int) = q10 at *
  have hq10p : ¬ q10 < 0 := by omega
  have hq10d : decide (q10 < 0) = false := by simp; omega
  have hq10e : (q10 != q10) = false := by simp
  clear hq10
  have q0 := HM10.out.1.cell 0 rfl
  have q1 := HM10.out.1.cell 1 rfl
  have q2 := HM10.out.1.cell 2 rfl
  have q3 := HM10.out.1.cell 3 rfl
  go_wp2_with fail
  refine (HHG.out _ HM10.out).mono ?_
  rintro e x11 ⟨rfl, hb⟩
  have HAw11 : Hid (CV x11 x1.heap.size w2.heap.size bw RI wa RN wc RZ S1 0) := HAw10.out.stays hb
  have HM11 : Hid (CV x11 x3.heap.size w4.heap.size bg RI ga RN gc (marks 1 RN) S1 0) := HM10.out.stays hb
  have HB11 : Hid (Below w.heap.size w x11) := HB10.out.trans (hb.mono HB10.out.size)
  clear hb q0 q1 q2 q3 HAw10 HM10 HB10
  go_wp2_with fail
  refine (HTs.out _ HB11.out).mono ?_
  rintro e x12 ⟨⟨g12, rfl, ho⟩, hb⟩
  have HB12 : Hid (Below w.heap.size w x12) := HB11.out.trans (hb.mono HB11.out.size)
  have HO12 : Hid (Owns x12 x11.heap.size (some ⟨g12, 0, none⟩) n n zs) := ho
  have HAw12 : Hid (CV x12 x1.heap.size w2.heap.size bw RI wa RN wc RZ S1 0) := HAw11.out.stays hb
  have HM12 : Hid (CV x12 x3.heap.size w4.heap.size bg RI ga RN gc (marks 1 RN) S1 0) := HM11.out.stays hb
  clear hb ho HB11 HAw11 HM11
  go_wp2_with fail
  refine (HI.out _ _ x12 HB12.out HO12.out).mono ?_
  rintro e zw13 ⟨⟨ha, hc, rfl, ho⟩, hb⟩
  obtain ⟨w13, hw13⟩ : ∃ w13, zw13.alloc (.cells #[.string RI, .slice ha RN hc, .int .i64 S1, .int .i64 0] 28) = w13 := ⟨_, rfl⟩
  obtain ⟨bh, hbh⟩ : ∃ bh, zw13.heap.size = bh := ⟨_, rfl⟩
  have HAh : Hid (CV w13 x12.heap.size w13.heap.size bh RI ha RN hc RZ S1 0) := by
    have h := CV.new (id := RI) (st := S1) (off := 0) ho hb.size
    show CV _ _ _ _ _ _ _ _ _ _ _
    rw [← hw13, ← hbh, World.size_alloc]
    exact h
  have HGw13 : Hid (Below x12.heap.size x12 w13) := by
    show Below _ _ _
    rw [← hw13]
    exact hb.alloc hb.size _
  have HEw13 : Hid (_ = w13) := hw13
  have HEbh : Hid (_ = bh) := hbh
  clear hw13 hbh ho hb
  go_upto_region 25 with fail
  rw [HEw13.out, HEbh.out]
  clear HEw13 HEbh
  have HB13 : Hid (Below w.heap.size w w13) := HB12.out.trans (HGw13.out.mono HB12.out.size)
  have HAw13 : Hid (CV w13 x1.heap.size w2.heap.size bw RI wa RN wc RZ S1 0) := HAw12.out.stays HGw13.out
  have HM13 : Hid (CV w13 x3.heap.size w4.heap.size bg RI ga RN gc (marks 1 RN) S1 0) := HM12.out.stays HGw13.out
  clear HGw13 HAw12 HM12 HB12 HO12
  have p0 := HAw13.out.1.cell 0 rfl
  have p1 := HAw13.out.1.cell 1 rfl
  have p2 := HAw13.out.1.cell 2 rfl
  have p3 := HAw13.out.1.cell 3 rfl
  have q0 := HAh.out.1.cell 0 rfl
  have q1 := HAh.out.1.cell 1 rfl
  have q2 := HAh.out.1.cell 2 rfl
  have q3 := HAh.out.1.cell 3 rfl
  go_wp2_with fail
  refine (eqClient_same RI ha wa RN hc wc RZ S1 0 w13 HAh.out.2.1.seg HAw13.out.2.1.seg (by omega)).mono ?_
  rintro e x14 ⟨rfl, hb⟩
  have HM14 : Hid (CV x14 x3.heap.size w4.heap.size bg RI ga RN gc (marks 1 RN) S1 0) := HM13.out.stays hb
  have HB14 : Hid (Below w.heap.size w x14) := HB13.out.trans (hb.mono HB13.out.size)
  clear hb p0 p1 p2 p3 q0 q1 q2 q3 HAw13 HAh HM13 HB13
  have q0 := HM14.out.1.cell 0 rfl
  have q1 := HM14.out.1.cell 1 rfl
  have q2 := HM14.out.1.cell 2 rfl
  have q3 := HM14.out.1.cell 3 rfl
  go_wp2_with fail
  refine (HHG.out _ HM14.out).mono ?_
  rintro e x15 ⟨rfl, hb⟩
  have HEn : Hid (Below w.heap.size w x15) := HB14.out.trans (hb.mono HB14.out.size)
  clear hb q0 q1 q2 q3 HM14 HB14
  go_wp2_with fail
  go_ret
  exact ⟨rfl, HEn.out⟩

end Go.Proofs.Ytlalebaaabdihaw
