/- The walk of the law FnExactAskWith. -/
import Derived.Test.YtbaijmkghgnleaaGreatDoorM39
import Derived.Test.YtbaijmkghgnleaaGreatDoorM43
import Derived.Test.YtbaijmkghgnleaaGreatDoorM44
import Derived.Test.YtbaijmkghgnleaaGreatDoorM44
import Derived.Test.YtbaijmkghgnleaaGreatDoorM46
import Derived.Test.YtbaijmkghgnleaaGreatDoorM45
import Derived.Test.YtbaijmkghgnleaaGreatDoorM45
import Derived.Test.YtbaijmkghgnleaaGreatDoorM45
import Derived.Test.YtbaijmkghgnleaaGreatDoorM39
import Derived.Deep.CutBlock
namespace Go.Proofs.YtbaijmkghgnleaaGreatDoor
open Go.RowKit
set_option linter.unusedVariables false

set_option maxRecDepth 10000 in
set_option maxHeartbeats 6400000 in
theorem askWalk (m : Int) (a : Option Addr) (len ca : Nat) (xs : List Fld) (s op : Int) (x : ByteArray) (n : Int) (ba : Option Addr) (L C : Nat) (zs : List Int) (most : Int) (w : World) (hx : Flds w a len xs) (hl : len ≤ maxLen) (hxs : x.size ≤ maxLen) (hs : Seg w ba L zs) (hL : L ≤ maxLen) (hF : reqB op x.data.toList n = true → fldBytes (fieldsR op x n) ≤ 100000)
    (hI : ∀ (g gb : Nat) (W : World), Below w.heap.size w W → len + fldBytes xs ≤ 1048576 → L ≤ 1048576 → Flds W (some ⟨g, 0, none⟩) len xs → Seg W (some ⟨gb, 0, none⟩) L zs → Calls Tryz.prog 10 #[.agg #[.int .i64 m, .slice (some ⟨g, 0, none⟩) len len], .int .i64 s, .agg #[.int .i64 op, .string x, .int .i64 n], .slice (some ⟨gb, 0, none⟩) L L, .int .i64 most] W fun e w' => AskAns m xs s op x n zs most W.heap.size e w' ∧ Below W.heap.size W w') :
    Calls Tryz.prog 3 #[.agg #[.int .i64 m, .slice a len ca], .int .i64 s, .agg #[.int .i64 op, .string x, .int .i64 n], .slice ba L C, .int .i64 most] w fun e w' => e = .returned (.bool true) ∧ Below w.heap.size w w' := by
  have hmm : maxLen < 9223372036854775808 := by decide
  obtain ⟨w0, hw0⟩ : ∃ w0, (w.alloc (.cells #[.int .i64 m, .slice a len ca] 24)).alloc (.cells #[.int .i64 op, .string x, .int .i64 n] 26) = w0 := ⟨_, rfl⟩
  have HE : Hid ((w.alloc (.cells #[.int .i64 m, .slice a len ca] 24)).alloc (.cells #[.int .i64 op, .string x, .int .i64 n] 26) = w0) := hw0
  have hB0 : Below w.heap.size w w0 := by rw [← hw0]; exact ((Below.refl _ _).alloc (Nat.le_refl _) _).alloc (by simp) _
  have hQ0 : BoxN w0 w.heap.size 24 [.int .i64 m, .slice a len ca] := by rw [← hw0]; exact (BoxN.new _ _ _).alloc _
  have hQ1 : BoxN w0 (w.heap.size + 1) 26 [.int .i64 op, .string x, .int .i64 n] := by
    rw [← hw0]
    have := BoxN.new (w.alloc (.cells #[.int .i64 m, .slice a len ca] 24)) 26 [.int .i64 op, .string x, .int .i64 n]
    rwa [World.size_alloc] at this
  have hww : w.heap.size + 1 < w0.heap.size := hQ1.lt
  have HX : Hid (∀ W, Below w0.heap.size w0 W → BoxN W w.heap.size 24 [.int .i64 m, .slice a len ca] ∧ BoxN W (w.heap.size + 1) 26 [.int .i64 op, .string x, .int .i64 n] ∧ Flds W a len xs ∧ Seg W ba L zs ∧ Below w.heap.size w W) := fun W hb => ⟨hQ0.stays hb, hQ1.stays hb, (hx.below hB0).below hb, (hs.below hB0).below hb, hB0.trans (hb.mono hB0.size)⟩
  have HFo : Hid (∀ f ∈ xs, True) := fun _ _ => trivial
  have HX1 := hidden hx.2.1
  have HA0 : Hid (Below w0.heap.size w0 w0) := Below.refl _ _
  clear hw0 hs hx hQ0 hQ1 hB0 HFo
  have c0 := (HX.out _ HA0.out).1.cell 0 rfl
  have c1 := (HX.out _ HA0.out).1.cell 1 rfl
  have d0 := (HX.out _ HA0.out).2.1.cell 0 rfl
  have d1 := (HX.out _ HA0.out).2.1.cell 1 rfl
  have d2 := (HX.out _ HA0.out).2.1.cell 2 rfl
  go_enter Tryz.func3, Tryz.ntmps3
  go_upto_region 1 with fail
  rw [HE.out]
  clear HE
  by_cases hL1 : (L : Int) > 1048576
  · have HBw : Hid (Below w.heap.size w w0) := (HX.out _ HA0.out).2.2.2.2
    go_wp2_with fail
    go_ret
    exact ⟨rfl, HBw.out⟩
  have hL2 : L ≤ 1048576 := by omega
  go_wp2_with fail
  refine (szTable_any m a len ca xs 1048576 w0 (HX.out _ HA0.out).2.2.1 (by omega) (by omega) hl).mono ?_
  rintro e x0 ⟨⟨v, rfl, hv1, hv2⟩, hb0⟩
  have HB0 : Hid (Below w0.heap.size w0 x0) := hb0
  have HV : Hid (0 ≤ v → v + (len + fldBytes xs : Int) ≤ 1048576) := fun h => by have := hv2 h; omega
  clear hb0 hv2 c0 c1 d0 d1 d2 hL1
  have d0 := (HX.out _ HB0.out).2.1.cell 0 rfl
  have d1 := (HX.out _ HB0.out).2.1.cell 1 rfl
  have d2 := (HX.out _ HB0.out).2.1.cell 2 rfl
  by_cases hneg : v < 0
  · have HBw : Hid (Below w.heap.size w x0) := (HX.out _ HB0.out).2.2.2.2
    go_wp2_with fail
    go_ret
    exact ⟨rfl, HBw.out⟩
  have hsv := HV.out (by omega)
  have hsz : len + fldBytes xs ≤ 1048576 := by omega
  have hnd : decide (v < 0) = false := by simp; omega
  go_wp2_with fail
  refine (szReq_any op x n v x0 (by omega) (by omega) (by omega)).mono ?_
  rintro e x1 ⟨rfl, hb1⟩
  have HB1 : Hid (Below w0.heap.size w0 x1) := HB0.out.trans (hb1.mono HB0.out.size)
  obtain ⟨v2, hv2⟩ : ∃ v2, (if v - (x.size : Int) < 0 then -1 else v - (x.size : Int)) = v2 := ⟨_, rfl⟩
  have hxb : 0 ≤ v2 → x.size ≤ 1048576 := by
    rw [← hv2]
    split <;> omega
  rw [hv2]
  clear hb1 hv2 HV hsv hnd hneg hv1 HB0 d0 d1 d2
  by_cases hneg : v2 < 0
  · have HBw : Hid (Below w.heap.size w x1) := (HX.out _ HB1.out).2.2.2.2
    go_wp2_with fail
    go_ret
    exact ⟨rfl, HBw.out⟩
  have hxk := hxb (by omega)
  have hnd : decide (v2 < 0) = false := by simp; omega
  clear hxb
  have HTt : Hid (∀ W, Below w0.heap.size w0 W → Calls Tryz.prog 7 #[.agg #[.int .i64 m, .slice a len ca]] W fun e w' => (∃ g, e = .returned (.agg #[.int .i64 m, .slice (some ⟨g, 0, none⟩) len len]) ∧ OwnF w' W.heap.size (.slice (some ⟨g, 0, none⟩) len len) len xs) ∧ Below W.heap.size W w') := fun W hb => by
    refine (toTable_own m a len ca xs W (HX.out _ hb).2.2.1 (by omega)).mono ?_
    rintro e w' ⟨g, rfl, _, ho, _, hb'⟩
    exact ⟨⟨g, rfl, ho, HX1.out⟩, hb'⟩
  have HTb : Hid (∀ W, Below w0.heap.size w0 W → Calls Tryz.prog 9 #[.slice ba L C] W fun e w' => (∃ g, e = .returned (.slice (some ⟨g, 0, none⟩) L L) ∧ Owns w' W.heap.size (some ⟨g, 0, none⟩) L L zs) ∧ Below W.heap.size W w') := fun W hb => by
    refine (toByteS_any ba L C zs W (HX.out _ hb).2.2.2.1 (by omega)).mono ?_
    rintro e w' ⟨rfl, ho, hb'⟩
    exact ⟨⟨_, rfl, ho, (HX.out _ hb).2.2.2.1.2.1⟩, hb'⟩
  have HP : Hid (∀ (g gb : Nat) (W : World), Below w0.heap.size w0 W → Flds W (some ⟨g, 0, none⟩) len xs → Seg W (some ⟨gb, 0, none⟩) L zs → Calls Tryz.prog 6 #[.agg #[.int .i64 m, .slice (some ⟨g, 0, none⟩) len len], .int .i64 s, .agg #[.int .i64 op, .string x, .int .i64 n], .slice (some ⟨gb, 0, none⟩) L L, .int .i64 most] W fun e w' => AskAns m xs s op x n zs most W.heap.size e w' ∧ Below W.heap.size W w') := fun g gb W hb hf hs => specAsk_any m _ len len xs s op x n gb 0 L L zs most W hf (by omega) hs (Nat.le_refl _) hL2 (by omega) hF
  have HI : Hid (∀ (g gb : Nat) (W : World), Below w0.heap.size w0 W → Flds W (some ⟨g, 0, none⟩) len xs → Seg W (some ⟨gb, 0, none⟩) L zs → Calls Tryz.prog 10 #[.agg #[.int .i64 m, .slice (some ⟨g, 0, none⟩) len len], .int .i64 s, .agg #[.int .i64 op, .string x, .int .i64 n], .slice (some ⟨gb, 0, none⟩) L L, .int .i64 most] W fun e w' => AskAns m xs s op x n zs most W.heap.size e w' ∧ Below W.heap.size W w') := fun g gb W hb hf hs => hI g gb W (HX.out _ hb).2.2.2.2 hsz hL2 hf hs
  have HFb : Hid (fldBytes (fieldsR op x n) ≤ 100000 ∨ ¬ reqB op x.data.toList n = true) := by
    by_cases h : reqB op x.data.toList n = true
    · exact .inl (hF h)
    · exact .inr h
  clear hI hF
  go_upto_region 10 with fail
  refine wp_region_grow 14 [Stay.val (.agg #[.int .i64 m, .slice a len ca]), ⟨fun v W => ∃ (g : Nat), v = .agg #[.int .i64 m, .slice (some ⟨g, 0, none⟩) len len] ∧ OwnF W x1.heap.size (.slice (some ⟨g, 0, none⟩) len len) len xs, fun ⟨g, h0, h1⟩ hb => ⟨g, h0, h1.stays hb⟩⟩, Stay.val (.int .i64 s), Stay.val (.agg #[.int .i64 op, .string x, .int .i64 n]), Stay.val (.agg #[.int .i64 op, .string x, .int .i64 n]), Stay.val (.slice ba L C), ⟨fun v W => ∃ (g : Nat), v = .slice (some ⟨g, 0, none⟩) L L ∧ Owns W x1.heap.size (some ⟨g, 0, none⟩) L L zs, fun ⟨g, h0, h1⟩ hb => ⟨g, h0, h1.below hb⟩⟩, Stay.val (.int .i64 most), ⟨fun v W => ∃ (bs : List Int) (ys : List Fld) (a1 : Option Addr) (k1 c1 : Nat) (av : Option Addr) (j cv : Nat), v = .tuple #[.slice a1 k1 c1, .agg #[.int .i64 m, .slice av j cv]] ∧ AskN m xs s op x n zs most bs ys ∧ Owns W x1.heap.size a1 k1 c1 bs ∧ OwnF W x1.heap.size (.slice av j cv) j ys, fun ⟨bs, ys, a1, k1, c1, av, j, cv, h0, h1, h2, h3⟩ hb => ⟨bs, ys, a1, k1, c1, av, j, cv, h0, h1, h2.below hb, h3.stays hb⟩⟩, ⟨fun v W => ∃ (bs : List Int) (ys : List Fld) (a1 : Option Addr) (k1 c1 : Nat) (av : Option Addr) (j cv : Nat), v = .tuple #[.slice a1 k1 c1, .agg #[.int .i64 m, .slice av j cv]] ∧ AskN m xs s op x n zs most bs ys ∧ Owns W x1.heap.size a1 k1 c1 bs ∧ OwnF W x1.heap.size (.slice av j cv) j ys, fun ⟨bs, ys, a1, k1, c1, av, j, cv, h0, h1, h2, h3⟩ hb => ⟨bs, ys, a1, k1, c1, av, j, cv, h0, h1, h2.below hb, h3.stays hb⟩⟩, ⟨fun v W => ∃ (bs : List Int) (ys : List Fld) (a1 : Option Addr) (k1 c1 : Nat), v = .slice a1 k1 c1 ∧ AskN m xs s op x n zs most bs ys ∧ Owns W x1.heap.size a1 k1 c1 bs, fun ⟨bs, ys, a1, k1, c1, h0, h1, h2⟩ hb => ⟨bs, ys, a1, k1, c1, h0, h1, h2.below hb⟩⟩, ⟨fun v W => ∃ (bs : List Int) (ys : List Fld) (av : Option Addr) (j cv : Nat), v = .agg #[.int .i64 m, .slice av j cv] ∧ AskN m xs s op x n zs most bs ys ∧ OwnF W x1.heap.size (.slice av j cv) j ys, fun ⟨bs, ys, av, j, cv, h0, h1, h2⟩ hb => ⟨bs, ys, av, j, cv, h0, h1, h2.stays hb⟩⟩, ⟨fun v W => ∃ (p : Nat), v = .pointer (some ⟨p, 0, none⟩) ∧ x1.heap.size ≤ p ∧ BoxN W p 32 [.int .i64 0, .slice none 0 0], fun ⟨p, h0, h1, h2⟩ hb => ⟨p, h0, h1, h2.stays hb⟩⟩, ⟨fun v W => ∃ (bs : List Int) (ys : List Fld) (a1 : Option Addr) (k1 c1 : Nat), v = .slice a1 k1 c1 ∧ AskN m xs s op x n zs most bs ys ∧ Owns W x1.heap.size a1 k1 c1 bs, fun ⟨bs, ys, a1, k1, c1, h0, h1, h2⟩ hb => ⟨bs, ys, a1, k1, c1, h0, h1, h2.below hb⟩⟩] (by kernel_rfl) (by kernel_rfl) ?_ ?_
  · refine (all_succ (all_succ (all_succ (all_succ (all_succ (all_succ (all_succ (all_succ (all_succ (all_succ (all_succ (all_succ (all_succ (all_succ all_zero ?g0) ?g1) ?g2) ?g3) ?g4) ?g5) ?g6) ?g7) ?g8) ?g9) ?g10) ?g11) ?g12) ?g13)
    case g0 =>
      intro o ho vs W hb hd
      have HBW : Hid (Below w0.heap.size w0 W) := HB1.out.trans (hb.mono HB1.out.size)
      have HS : Hid (x1.heap.size ≤ W.heap.size) := hb.size
      have HXW : Hid (Below x1.heap.size x1 W) := hb
      clear hb
      obtain rfl := Option.some.inj ho
      clear ho hd
      have hq := (HX.out _ HBW.out).1
      have c0 := hq.cell 0 rfl
      have c1 := hq.cell 1 rfl
      clear hq
      intro K hK
      simp only [List.take, putsT, put_mk, List.setIfInBounds_toArray, List.set_cons_succ, List.set_cons_zero] at hK ⊢
      have HK : Hid _ := hK
      clear hK
      go_wp2_with fail
      exact HK.out _ _ (Below.refl _ _) rfl
    case g1 =>
      intro o ho vs W hb hd
      have HBW : Hid (Below w0.heap.size w0 W) := HB1.out.trans (hb.mono HB1.out.size)
      have HS : Hid (x1.heap.size ≤ W.heap.size) := hb.size
      have HXW : Hid (Below x1.heap.size x1 W) := hb
      clear hb
      obtain rfl := Option.some.inj ho
      have h0 : vs 0 = _ := hd 0 (by decide) (by kernel_rfl)
      clear ho hd
      intro K hK
      simp only [List.take, putsT, put_mk, List.setIfInBounds_toArray, List.set_cons_succ, List.set_cons_zero] at hK ⊢
      rw [h0] at hK ⊢
      clear h0
      have HK : Hid _ := hK
      clear hK
      go_wp2_with fail
      refine (HTt.out _ HBW.out).mono ?_
      rintro e w' ⟨⟨g, rfl, how⟩, hb⟩
      go_wp2_with fail
      exact HK.out _ _ hb ⟨g, rfl, own_down how.1 HS.out, how.2⟩
    case g2 =>
      intro o ho vs W hb hd
      have HBW : Hid (Below w0.heap.size w0 W) := HB1.out.trans (hb.mono HB1.out.size)
      have HS : Hid (x1.heap.size ≤ W.heap.size) := hb.size
      have HXW : Hid (Below x1.heap.size x1 W) := hb
      clear hb
      obtain rfl := Option.some.inj ho
      clear ho hd
      intro K hK
      simp only [List.take, putsT, put_mk, List.setIfInBounds_toArray, List.set_cons_succ, List.set_cons_zero] at hK ⊢
      have HK : Hid _ := hK
      clear hK
      go_wp2_with fail
      exact HK.out _ _ (Below.refl _ _) rfl
    case g3 =>
      intro o ho vs W hb hd
      have HBW : Hid (Below w0.heap.size w0 W) := HB1.out.trans (hb.mono HB1.out.size)
      have HS : Hid (x1.heap.size ≤ W.heap.size) := hb.size
      have HXW : Hid (Below x1.heap.size x1 W) := hb
      clear hb
      obtain rfl := Option.some.inj ho
      clear ho hd
      have hq := (HX.out _ HBW.out).2.1
      have c0 := hq.cell 0 rfl
      have c1 := hq.cell 1 rfl
      have c2 := hq.cell 2 rfl
      clear hq
      intro K hK
      simp only [List.take, putsT, put_mk, List.setIfInBounds_toArray, List.set_cons_succ, List.set_cons_zero] at hK ⊢
      have HK : Hid _ := hK
      clear hK
      go_wp2_with fail
      exact HK.out _ _ (Below.refl _ _) rfl
    case g4 =>
      intro o ho vs W hb hd
      have HBW : Hid (Below w0.heap.size w0 W) := HB1.out.trans (hb.mono HB1.out.size)
      have HS : Hid (x1.heap.size ≤ W.heap.size) := hb.size
      have HXW : Hid (Below x1.heap.size x1 W) := hb
      clear hb
      obtain rfl := Option.some.inj ho
      have h3 : vs 3 = _ := hd 3 (by decide) (by kernel_rfl)
      clear ho hd
      intro K hK
      simp only [List.take, putsT, put_mk, List.setIfInBounds_toArray, List.set_cons_succ, List.set_cons_zero] at hK ⊢
      rw [h3] at hK ⊢
      clear h3
      have HK : Hid _ := hK
      clear hK
      go_wp2_with fail
      refine (toReq_any op x n W).mono ?_
      rintro e w' ⟨rfl, hb⟩
      go_wp2_with fail
      exact HK.out _ _ hb rfl
    case g5 =>
      intro o ho vs W hb hd
      have HBW : Hid (Below w0.heap.size w0 W) := HB1.out.trans (hb.mono HB1.out.size)
      have HS : Hid (x1.heap.size ≤ W.heap.size) := hb.size
      have HXW : Hid (Below x1.heap.size x1 W) := hb
      clear hb
      obtain rfl := Option.some.inj ho
      clear ho hd
      intro K hK
      simp only [List.take, putsT, put_mk, List.setIfInBounds_toArray, List.set_cons_succ, List.set_cons_zero] at hK ⊢
      have HK : Hid _ := hK
      clear hK
      go_wp2_with fail
      exact HK.out _ _ (Below.refl _ _) rfl
    case g6 =>
      intro o ho vs W hb hd
      have HBW : Hid (Below w0.heap.size w0 W) := HB1.out.trans (hb.mono HB1.out.size)
      have HS : Hid (x1.heap.size ≤ W.heap.size) := hb.size
      have HXW : Hid (Below x1.heap.size x1 W) := hb
      clear hb
      obtain rfl := Option.some.inj ho
      have h5 : vs 5 = _ := hd 5 (by decide) (by kernel_rfl)
      clear ho hd
      intro K hK
      simp only [List.take, putsT, put_mk, List.setIfInBounds_toArray, List.set_cons_succ, List.set_cons_zero] at hK ⊢
      rw [h5] at hK ⊢
      clear h5
      have HK : Hid _ := hK
      clear hK
      go_wp2_with fail
      refine (HTb.out _ HBW.out).mono ?_
      rintro e w' ⟨⟨g, rfl, how⟩, hb⟩
      go_wp2_with fail
      exact HK.out _ _ hb ⟨g, rfl, how.low HS.out⟩
    case g7 =>
      intro o ho vs W hb hd
      have HBW : Hid (Below w0.heap.size w0 W) := HB1.out.trans (hb.mono HB1.out.size)
      have HS : Hid (x1.heap.size ≤ W.heap.size) := hb.size
      have HXW : Hid (Below x1.heap.size x1 W) := hb
      clear hb
      obtain rfl := Option.some.inj ho
      clear ho hd
      intro K hK
      simp only [List.take, putsT, put_mk, List.setIfInBounds_toArray, List.set_cons_succ, List.set_cons_zero] at hK ⊢
      have HK : Hid _ := hK
      clear hK
      go_wp2_with fail
      exact HK.out _ _ (Below.refl _ _) rfl
    case g8 =>
      intro o ho vs W hb hd
      have HBW : Hid (Below w0.heap.size w0 W) := HB1.out.trans (hb.mono HB1.out.size)
      have HS : Hid (x1.heap.size ≤ W.heap.size) := hb.size
      have HXW : Hid (Below x1.heap.size x1 W) := hb
      clear hb
      obtain rfl := Option.some.inj ho
      obtain ⟨g1, h1, ho1⟩ := hd 1 (by decide) (by kernel_rfl)
      have h2 : vs 2 = _ := hd 2 (by decide) (by kernel_rfl)
      have h4 : vs 4 = _ := hd 4 (by decide) (by kernel_rfl)
      obtain ⟨g2, h6, ho2⟩ := hd 6 (by decide) (by kernel_rfl)
      have h7 : vs 7 = _ := hd 7 (by decide) (by kernel_rfl)
      clear ho hd
      intro K hK
      simp only [List.take, putsT, put_mk, List.setIfInBounds_toArray, List.set_cons_succ, List.set_cons_zero] at hK ⊢
      rw [h1, h2, h4, h6, h7] at hK ⊢
      clear h1 h2 h4 h6 h7
      have HK : Hid _ := hK
      clear hK
      have HO1 := hidden ho1
      have HO2 := hidden ho2
      clear ho1 ho2
      go_wp2_with fail
      refine (HP.out g1 g2 W HBW.out (OwnF.flds HO1.out) (Owns.seg HO2.out)).mono ?_
      rintro e w' ⟨⟨bs, ys, a1, k1, c1, v1, j, rfl, hp, how, hf⟩, hb⟩
      obtain ⟨av, cv, rfl⟩ := hf.shape
      go_wp2_with fail
      exact HK.out _ _ hb ⟨bs, ys, a1, k1, c1, av, j, cv, rfl, hp, how.low HS.out, own_down hf.1 HS.out, hf.2⟩
    case g9 =>
      intro o ho vs W hb hd
      have HBW : Hid (Below w0.heap.size w0 W) := HB1.out.trans (hb.mono HB1.out.size)
      have HS : Hid (x1.heap.size ≤ W.heap.size) := hb.size
      have HXW : Hid (Below x1.heap.size x1 W) := hb
      clear hb
      obtain rfl := Option.some.inj ho
      obtain ⟨bs, ys, a1, k1, c1, av, j, cv, h8, hp, how, hf⟩ := hd 8 (by decide) (by kernel_rfl)
      clear ho hd
      intro K hK
      simp only [List.take, putsT, put_mk, List.setIfInBounds_toArray, List.set_cons_succ, List.set_cons_zero] at hK ⊢
      rw [h8] at hK ⊢
      clear h8
      have HK : Hid _ := hK
      clear hK
      have HP3 := hidden (And.intro hp (And.intro how hf))
      clear hp how hf
      go_wp2_with fail
      exact HK.out _ _ (Below.refl _ _) ⟨bs, ys, a1, k1, c1, av, j, cv, rfl, HP3.out⟩
    case g10 =>
      intro o ho vs W hb hd
      have HBW : Hid (Below w0.heap.size w0 W) := HB1.out.trans (hb.mono HB1.out.size)
      have HS : Hid (x1.heap.size ≤ W.heap.size) := hb.size
      have HXW : Hid (Below x1.heap.size x1 W) := hb
      clear hb
      obtain rfl := Option.some.inj ho
      obtain ⟨bs, ys, a1, k1, c1, av, j, cv, h9, hp, how, hf⟩ := hd 9 (by decide) (by kernel_rfl)
      clear ho hd
      intro K hK
      simp only [List.take, putsT, put_mk, List.setIfInBounds_toArray, List.set_cons_succ, List.set_cons_zero] at hK ⊢
      rw [h9] at hK ⊢
      clear h9
      have HK : Hid _ := hK
      clear hK
      have HP3 := hidden (And.intro hp how)
      clear hp how hf
      go_wp2_with fail
      exact HK.out _ _ (Below.refl _ _) ⟨bs, ys, a1, k1, c1, rfl, HP3.out⟩
    case g11 =>
      intro o ho vs W hb hd
      have HBW : Hid (Below w0.heap.size w0 W) := HB1.out.trans (hb.mono HB1.out.size)
      have HS : Hid (x1.heap.size ≤ W.heap.size) := hb.size
      have HXW : Hid (Below x1.heap.size x1 W) := hb
      clear hb
      obtain rfl := Option.some.inj ho
      obtain ⟨bs, ys, a1, k1, c1, av, j, cv, h9, hp, how, hf⟩ := hd 9 (by decide) (by kernel_rfl)
      clear ho hd
      intro K hK
      simp only [List.take, putsT, put_mk, List.setIfInBounds_toArray, List.set_cons_succ, List.set_cons_zero] at hK ⊢
      rw [h9] at hK ⊢
      clear h9
      have HK : Hid _ := hK
      clear hK
      have HP3 := hidden (And.intro hp hf)
      clear hp how hf
      go_wp2_with fail
      exact HK.out _ _ (Below.refl _ _) ⟨bs, ys, av, j, cv, rfl, HP3.out⟩
    case g12 =>
      intro o ho vs W hb hd
      have HBW : Hid (Below w0.heap.size w0 W) := HB1.out.trans (hb.mono HB1.out.size)
      have HS : Hid (x1.heap.size ≤ W.heap.size) := hb.size
      have HXW : Hid (Below x1.heap.size x1 W) := hb
      clear hb
      obtain rfl := Option.some.inj ho
      clear ho hd
      intro K hK
      simp only [List.take, putsT, put_mk, List.setIfInBounds_toArray, List.set_cons_succ, List.set_cons_zero] at hK ⊢
      have HK : Hid _ := hK
      clear hK
      go_wp2_with fail
      exact HK.out _ _ ((Below.refl _ _).alloc (Nat.le_refl _) _) ⟨_, rfl, HS.out, BoxN.new _ _ _⟩
    case g13 =>
      intro o ho vs W hb hd
      have HBW : Hid (Below w0.heap.size w0 W) := HB1.out.trans (hb.mono HB1.out.size)
      have HS : Hid (x1.heap.size ≤ W.heap.size) := hb.size
      have HXW : Hid (Below x1.heap.size x1 W) := hb
      clear hb
      obtain rfl := Option.some.inj ho
      obtain ⟨bs, ys, a1, k1, c1, h10, hp, how⟩ := hd 10 (by decide) (by kernel_rfl)
      clear ho hd
      intro K hK
      simp only [List.take, putsT, put_mk, List.setIfInBounds_toArray, List.set_cons_succ, List.set_cons_zero] at hK ⊢
      rw [h10] at hK ⊢
      clear h10
      have HK : Hid _ := hK
      clear hK
      have HP3 := hidden (And.intro hp how)
      clear hp how
      go_wp2_with fail
      exact HK.out _ _ (Below.refl _ _) ⟨bs, ys, a1, k1, c1, rfl, HP3.out⟩
  intro vs W hb hd
  have HBW : Hid (Below w0.heap.size w0 W) := HB1.out.trans (hb.mono HB1.out.size)
  have HS : Hid (x1.heap.size ≤ W.heap.size) := hb.size
  have HXW : Hid (Below x1.heap.size x1 W) := hb
  clear hb
  simp only [List.take, List.drop, putsT, put_mk, List.setIfInBounds_toArray, List.set_cons_succ, List.set_cons_zero]
  obtain ⟨bs, ys, wa, kw, wc, h13, hp13, ho13⟩ := hd 13 (by decide)
  obtain ⟨bs6, ys6, va, jw, vc, h11, hp11, hf11⟩ := hd 11 (by decide)
  obtain ⟨bw, h12, hlp, hbp⟩ := hd 12 (by decide)
  obtain ⟨rfl, rfl⟩ := hp13.one hp11
  rw [h13, h11, h12]
  clear h13 h11 h12 hd hp11
  have d0 := hbp.cell 0 rfl
  have d1 := hbp.cell 1 rfl
  have f0 := hbp.frozen 0
  have f1 := hbp.frozen 1
  obtain ⟨w2, hw2⟩ : ∃ w2, (W.setCell ⟨bw, 0, none⟩ (.int .i64 m)).setCell ⟨bw, 1, none⟩ (.slice va jw vc) = w2 := ⟨_, rfl⟩
  have HAw : Hid (AP w2 x1.heap.size m bw va jw vc ys wa kw wc bs) := by
    have h1 := own_apart (t := 32) (by decide) ho13.1 hbp
    have h2 := own_apart (t := 32) (by decide) hf11.1 hbp
    show AP _ _ _ _ _ _ _ _ _ _ _ _
    rw [← hw2]
    exact ⟨(hbp.set 0 _).set 1 _, ⟨own_put (own_put hf11.1 h2) h2, hf11.2⟩, ⟨own_put (own_put ho13.1 h1) h1, ho13.2⟩⟩
  have HB2 : Hid (Below w0.heap.size w0 w2) := by
    have hz := HB1.out.size
    show Below _ _ _
    rw [← hw2]
    exact (HBW.out.setCell (by dsimp only; omega) _).setCell (by dsimp only; omega) _
  have HAns : Hid (AskN m xs s op x n zs most bs ys) := hp13
  have HW2 : Hid (_ = w2) := hw2
  have hz12 : x1.heap.size ≤ w2.heap.size := by
    have h := HS.out
    rw [← hw2]
    simpa using h
  clear hw2 hbp ho13 hf11 hp13 HS HXW HBW hlp HP
  go_upto_region 11 with fail
  rw [HW2.out]
  clear HW2 d0 d1 f0 f1
  have HBd : Hid (bs.length ≤ 3000000000 ∧ ys.length ≤ 3000000) := by
    show _ ∧ _
    rcases HAns.out with ⟨⟨_, hrq, _⟩, q, hq, rfl⟩ | ⟨_, rfl, rfl⟩
    · have h1 := hq.fits
      have h2 := bytesF_len (askF s zs q most)
      have h3 := askF_len s zs q most
      have h4 := HFb.out.resolve_right (fun h => h hrq)
      have h5 := (HX.out _ HB2.out).2.2.2.1.1
      have h6 := (HX.out _ HB2.out).2.2.1.1
      have h7 := fieldsR_len op x n
      have h8 := fldBytes_take (fieldsR op x n) (fieldsR op x n).length
      omega
    · have h6 := (HX.out _ HB2.out).2.2.1.1
      simp
      omega
  have hkw : bs.length = kw := HAw.out.2.2.seg.1
  have hjw : ys.length = jw := HAw.out.2.1.len
  have hkb : kw ≤ 3000000000 := by have := HBd.out.1; omega
  have hjb : jw ≤ 3000000 := by have := HBd.out.2; omega
  have HI2 : Hid (∀ (g gb : Nat) (W : World), Below w0.heap.size w0 W → Flds W (some ⟨g, 0, none⟩) len xs → Seg W (some ⟨gb, 0, none⟩) L zs → Calls Tryz.prog 10 #[.agg #[.int .i64 m, .slice (some ⟨g, 0, none⟩) len len], .int .i64 s, .agg #[.int .i64 op, .string x, .int .i64 n], .slice (some ⟨gb, 0, none⟩) L L, .int .i64 most] W fun e w' => (∃ a1 c1 av cv, e = .returned (.tuple #[.slice a1 kw c1, .agg #[.int .i64 m, .slice av jw cv]]) ∧ Owns w' W.heap.size a1 kw c1 bs ∧ OwnF w' W.heap.size (.slice av jw cv) jw ys) ∧ Below W.heap.size W w') := fun g gb W hb hf hs => by
    refine (HI.out g gb W hb hf hs).mono ?_
    rintro e w' ⟨⟨bs', ys', a1, k1, c1, v1, j1, rfl, hp, ho, hf⟩, hb⟩
    obtain ⟨rfl, rfl⟩ := hp.one HAns.out
    obtain ⟨av, cv, rfl⟩ := hf.shape
    obtain rfl : k1 = kw := by rw [← hkw]; exact ho.seg.1.symm
    obtain rfl : j1 = jw := by rw [← hjw]; exact hf.len.symm
    exact ⟨⟨a1, c1, av, cv, rfl, ho, hf⟩, hb⟩
  clear HI HAns HBd hkw hjw
  have c0 := (HX.out _ HB2.out).1.cell 0 rfl
  have c1 := (HX.out _ HB2.out).1.cell 1 rfl
  go_wp2_with fail
  refine (HTt.out _ HB2.out).mono ?_
  rintro e x3 ⟨⟨g3, rfl, ho⟩, hb⟩
  obtain ⟨w3, hw3⟩ : ∃ w3, x3.alloc (.cells #[.int .i64 m, .slice (some ⟨g3, 0, none⟩) len len] 32) = w3 := ⟨_, rfl⟩
  obtain ⟨bx, hbx⟩ : ∃ bx, x3.heap.size = bx := ⟨_, rfl⟩
  have HX3 : Hid (BoxN w3 bx 32 [.int .i64 m, .slice (some ⟨g3, 0, none⟩) len len] ∧ OwnF w3 w2.heap.size (.slice (some ⟨g3, 0, none⟩) len len) len xs) := by
    show _ ∧ _
    rw [← hw3, ← hbx]
    exact ⟨BoxN.new _ _ _, ho.stays ((Below.refl _ _).alloc (Nat.le_refl _) _)⟩
  have hb3 : Below w2.heap.size w2 w3 := by
    rw [← hw3]
    exact hb.alloc hb.size _
  have hz3 : g3 < bx ∧ bx < w3.heap.size := by
    have h1 := (ho.lt g3 rfl).2
    have h2 := HX3.out.1.lt
    omega
  have HB3 : Hid (Below w0.heap.size w0 w3) := HB2.out.trans (hb3.mono HB2.out.size)
  have HAw3 : Hid (AP w3 x1.heap.size m bw va jw vc ys wa kw wc bs) := HAw.out.stays hb3
  have hz23 : w2.heap.size ≤ w3.heap.size := hb3.size
  have HLow : Hid (Low w2.heap.size bw va wa) := HAw.out.low
  have HE3 : Hid (_ = w3) := hw3
  have HEb : Hid (_ = bx) := hbx
  clear hw3 hbx ho hb hb3 HAw c0 c1
  go_upto_region 12 with fail
  rw [HE3.out, HEb.out]
  clear HE3 HEb
  go_wp2_with fail
  refine (HTb.out _ HB3.out).mono ?_
  rintro e w4 ⟨⟨g4, rfl, ho⟩, hb⟩
  have HB4 : Hid (Below w0.heap.size w0 w4) := HB3.out.trans (hb.mono HB3.out.size)
  have HAw4 : Hid (AP w4 x1.heap.size m bw va jw vc ys wa kw wc bs) := HAw3.out.stays hb
  have HX4 : Hid (BoxN w4 bx 32 [.int .i64 m, .slice (some ⟨g3, 0, none⟩) len len] ∧ OwnF w4 w2.heap.size (.slice (some ⟨g3, 0, none⟩) len len) len xs) := ⟨HX3.out.1.stays hb, HX3.out.2.stays hb⟩
  have HY4 : Hid (Owns w4 w3.heap.size (some ⟨g4, 0, none⟩) L L zs) := ho
  have hz34 : w3.heap.size ≤ w4.heap.size := hb.size
  have HZ4 : Hid (g4 < w4.heap.size) := (HY4.out.lt g4 rfl).2
  clear ho hb HAw3 HX3 HB3
  go_upto_region 13 with fail
  refine wp_region_grow 12 [Stay.val (.agg #[.int .i64 m, .slice (some ⟨g3, 0, none⟩) len len]), Stay.val (.int .i64 s), Stay.val (.agg #[.int .i64 op, .string x, .int .i64 n]), Stay.val (.agg #[.int .i64 op, .string x, .int .i64 n]), Stay.val (.slice (some ⟨g4, 0, none⟩) L L), Stay.val (.int .i64 most), ⟨fun v W => ∃ (a1 : Option Addr) (c1 : Nat) (av : Option Addr) (cv : Nat), v = .tuple #[.slice a1 kw c1, .agg #[.int .i64 m, .slice av jw cv]] ∧ Owns W w4.heap.size a1 kw c1 bs ∧ OwnF W w4.heap.size (.slice av jw cv) jw ys, fun ⟨a1, c1, av, cv, h0, h1, h2⟩ hb => ⟨a1, c1, av, cv, h0, h1.below hb, h2.stays hb⟩⟩, ⟨fun v W => ∃ (a1 : Option Addr) (c1 : Nat) (av : Option Addr) (cv : Nat), v = .tuple #[.slice a1 kw c1, .agg #[.int .i64 m, .slice av jw cv]] ∧ Owns W w4.heap.size a1 kw c1 bs ∧ OwnF W w4.heap.size (.slice av jw cv) jw ys, fun ⟨a1, c1, av, cv, h0, h1, h2⟩ hb => ⟨a1, c1, av, cv, h0, h1.below hb, h2.stays hb⟩⟩, ⟨fun v W => ∃ (a1 : Option Addr) (c1 : Nat), v = .slice a1 kw c1 ∧ Owns W w4.heap.size a1 kw c1 bs, fun ⟨a1, c1, h0, h1⟩ hb => ⟨a1, c1, h0, h1.below hb⟩⟩, ⟨fun v W => ∃ (av : Option Addr) (cv : Nat), v = .agg #[.int .i64 m, .slice av jw cv] ∧ OwnF W w4.heap.size (.slice av jw cv) jw ys, fun ⟨av, cv, h0, h1⟩ hb => ⟨av, cv, h0, h1.stays hb⟩⟩, ⟨fun v W => ∃ (p : Nat), v = .pointer (some ⟨p, 0, none⟩) ∧ w4.heap.size ≤ p ∧ BoxN W p 32 [.int .i64 0, .slice none 0 0], fun ⟨p, h0, h1, h2⟩ hb => ⟨p, h0, h1, h2.stays hb⟩⟩, ⟨fun v W => ∃ (a1 : Option Addr) (c1 : Nat), v = .slice a1 kw c1 ∧ Owns W w4.heap.size a1 kw c1 bs, fun ⟨a1, c1, h0, h1⟩ hb => ⟨a1, c1, h0, h1.below hb⟩⟩] (by kernel_rfl) (by kernel_rfl) ?_ ?_
  · refine (all_succ (all_succ (all_succ (all_succ (all_succ (all_succ (all_succ (all_succ (all_succ (all_succ (all_succ (all_succ all_zero ?g0) ?g1) ?g2) ?g3) ?g4) ?g5) ?g6) ?g7) ?g8) ?g9) ?g10) ?g11)
    case g0 =>
      intro o ho vs W hb hd
      have HBW : Hid (Below w0.heap.size w0 W) := HB4.out.trans (hb.mono HB4.out.size)
      have HS : Hid (w4.heap.size ≤ W.heap.size) := hb.size
      have HXW : Hid (Below w4.heap.size w4 W) := hb
      clear hb
      obtain rfl := Option.some.inj ho
      clear ho hd
      have hq := (HX4.out.1.stays HXW.out)
      have c0 := hq.cell 0 rfl
      have c1 := hq.cell 1 rfl
      clear hq
      intro K hK
      simp only [List.take, putsT, put_mk, List.setIfInBounds_toArray, List.set_cons_succ, List.set_cons_zero] at hK ⊢
      have HK : Hid _ := hK
      clear hK
      go_wp2_with fail
      exact HK.out _ _ (Below.refl _ _) rfl
    case g1 =>
      intro o ho vs W hb hd
      have HBW : Hid (Below w0.heap.size w0 W) := HB4.out.trans (hb.mono HB4.out.size)
      have HS : Hid (w4.heap.size ≤ W.heap.size) := hb.size
      have HXW : Hid (Below w4.heap.size w4 W) := hb
      clear hb
      obtain rfl := Option.some.inj ho
      clear ho hd
      intro K hK
      simp only [List.take, putsT, put_mk, List.setIfInBounds_toArray, List.set_cons_succ, List.set_cons_zero] at hK ⊢
      have HK : Hid _ := hK
      clear hK
      go_wp2_with fail
      exact HK.out _ _ (Below.refl _ _) rfl
    case g2 =>
      intro o ho vs W hb hd
      have HBW : Hid (Below w0.heap.size w0 W) := HB4.out.trans (hb.mono HB4.out.size)
      have HS : Hid (w4.heap.size ≤ W.heap.size) := hb.size
      have HXW : Hid (Below w4.heap.size w4 W) := hb
      clear hb
      obtain rfl := Option.some.inj ho
      clear ho hd
      have hq := (HX.out _ HBW.out).2.1
      have c0 := hq.cell 0 rfl
      have c1 := hq.cell 1 rfl
      have c2 := hq.cell 2 rfl
      clear hq
      intro K hK
      simp only [List.take, putsT, put_mk, List.setIfInBounds_toArray, List.set_cons_succ, List.set_cons_zero] at hK ⊢
      have HK : Hid _ := hK
      clear hK
      go_wp2_with fail
      exact HK.out _ _ (Below.refl _ _) rfl
    case g3 =>
      intro o ho vs W hb hd
      have HBW : Hid (Below w0.heap.size w0 W) := HB4.out.trans (hb.mono HB4.out.size)
      have HS : Hid (w4.heap.size ≤ W.heap.size) := hb.size
      have HXW : Hid (Below w4.heap.size w4 W) := hb
      clear hb
      obtain rfl := Option.some.inj ho
      have h2 : vs 2 = _ := hd 2 (by decide) (by kernel_rfl)
      clear ho hd
      intro K hK
      simp only [List.take, putsT, put_mk, List.setIfInBounds_toArray, List.set_cons_succ, List.set_cons_zero] at hK ⊢
      rw [h2] at hK ⊢
      clear h2
      have HK : Hid _ := hK
      clear hK
      go_wp2_with fail
      refine (toReq_any op x n W).mono ?_
      rintro e w' ⟨rfl, hb⟩
      go_wp2_with fail
      exact HK.out _ _ hb rfl
    case g4 =>
      intro o ho vs W hb hd
      have HBW : Hid (Below w0.heap.size w0 W) := HB4.out.trans (hb.mono HB4.out.size)
      have HS : Hid (w4.heap.size ≤ W.heap.size) := hb.size
      have HXW : Hid (Below w4.heap.size w4 W) := hb
      clear hb
      obtain rfl := Option.some.inj ho
      clear ho hd
      intro K hK
      simp only [List.take, putsT, put_mk, List.setIfInBounds_toArray, List.set_cons_succ, List.set_cons_zero] at hK ⊢
      have HK : Hid _ := hK
      clear hK
      go_wp2_with fail
      exact HK.out _ _ (Below.refl _ _) rfl
    case g5 =>
      intro o ho vs W hb hd
      have HBW : Hid (Below w0.heap.size w0 W) := HB4.out.trans (hb.mono HB4.out.size)
      have HS : Hid (w4.heap.size ≤ W.heap.size) := hb.size
      have HXW : Hid (Below w4.heap.size w4 W) := hb
      clear hb
      obtain rfl := Option.some.inj ho
      clear ho hd
      intro K hK
      simp only [List.take, putsT, put_mk, List.setIfInBounds_toArray, List.set_cons_succ, List.set_cons_zero] at hK ⊢
      have HK : Hid _ := hK
      clear hK
      go_wp2_with fail
      exact HK.out _ _ (Below.refl _ _) rfl
    case g6 =>
      intro o ho vs W hb hd
      have HBW : Hid (Below w0.heap.size w0 W) := HB4.out.trans (hb.mono HB4.out.size)
      have HS : Hid (w4.heap.size ≤ W.heap.size) := hb.size
      have HXW : Hid (Below w4.heap.size w4 W) := hb
      clear hb
      obtain rfl := Option.some.inj ho
      have h0 : vs 0 = _ := hd 0 (by decide) (by kernel_rfl)
      have h1 : vs 1 = _ := hd 1 (by decide) (by kernel_rfl)
      have h3 : vs 3 = _ := hd 3 (by decide) (by kernel_rfl)
      have h4 : vs 4 = _ := hd 4 (by decide) (by kernel_rfl)
      have h5 : vs 5 = _ := hd 5 (by decide) (by kernel_rfl)
      clear ho hd
      intro K hK
      simp only [List.take, putsT, put_mk, List.setIfInBounds_toArray, List.set_cons_succ, List.set_cons_zero] at hK ⊢
      rw [h0, h1, h3, h4, h5] at hK ⊢
      clear h0 h1 h3 h4 h5
      have HK : Hid _ := hK
      clear hK
      go_wp2_with fail
      refine (HI2.out g3 g4 W HBW.out (HX4.out.2.stays HXW.out).flds (HY4.out.below HXW.out).seg).mono ?_
      rintro e w' ⟨⟨a1, c1, av, cv, rfl, how, hf⟩, hb⟩
      go_wp2_with fail
      exact HK.out _ _ hb ⟨a1, c1, av, cv, rfl, how.low HS.out, own_down hf.1 HS.out, hf.2⟩
    case g7 =>
      intro o ho vs W hb hd
      have HBW : Hid (Below w0.heap.size w0 W) := HB4.out.trans (hb.mono HB4.out.size)
      have HS : Hid (w4.heap.size ≤ W.heap.size) := hb.size
      have HXW : Hid (Below w4.heap.size w4 W) := hb
      clear hb
      obtain rfl := Option.some.inj ho
      obtain ⟨a1, c1, av, cv, h6, how, hf⟩ := hd 6 (by decide) (by kernel_rfl)
      clear ho hd
      intro K hK
      simp only [List.take, putsT, put_mk, List.setIfInBounds_toArray, List.set_cons_succ, List.set_cons_zero] at hK ⊢
      rw [h6] at hK ⊢
      clear h6
      have HK : Hid _ := hK
      clear hK
      have HP3 := hidden (And.intro how hf)
      clear how hf
      go_wp2_with fail
      exact HK.out _ _ (Below.refl _ _) ⟨a1, c1, av, cv, rfl, HP3.out⟩
    case g8 =>
      intro o ho vs W hb hd
      have HBW : Hid (Below w0.heap.size w0 W) := HB4.out.trans (hb.mono HB4.out.size)
      have HS : Hid (w4.heap.size ≤ W.heap.size) := hb.size
      have HXW : Hid (Below w4.heap.size w4 W) := hb
      clear hb
      obtain rfl := Option.some.inj ho
      obtain ⟨a1, c1, av, cv, h7, how, hf⟩ := hd 7 (by decide) (by kernel_rfl)
      clear ho hd
      intro K hK
      simp only [List.take, putsT, put_mk, List.setIfInBounds_toArray, List.set_cons_succ, List.set_cons_zero] at hK ⊢
      rw [h7] at hK ⊢
      clear h7
      have HK : Hid _ := hK
      clear hK
      have HP3 := hidden how
      clear how hf
      go_wp2_with fail
      exact HK.out _ _ (Below.refl _ _) ⟨a1, c1, rfl, HP3.out⟩
    case g9 =>
      intro o ho vs W hb hd
      have HBW : Hid (Below w0.heap.size w0 W) := HB4.out.trans (hb.mono HB4.out.size)
      have HS : Hid (w4.heap.size ≤ W.heap.size) := hb.size
      have HXW : Hid (Below w4.heap.size w4 W) := hb
      clear hb
      obtain rfl := Option.some.inj ho
      obtain ⟨a1, c1, av, cv, h7, how, hf⟩ := hd 7 (by decide) (by kernel_rfl)
      clear ho hd
      intro K hK
      simp only [List.take, putsT, put_mk, List.setIfInBounds_toArray, List.set_cons_succ, List.set_cons_zero] at hK ⊢
      rw [h7] at hK ⊢
      clear h7
      have HK : Hid _ := hK
      clear hK
      have HP3 := hidden hf
      clear how hf
      go_wp2_with fail
      exact HK.out _ _ (Below.refl _ _) ⟨av, cv, rfl, HP3.out⟩
    case g10 =>
      intro o ho vs W hb hd
      have HBW : Hid (Below w0.heap.size w0 W) := HB4.out.trans (hb.mono HB4.out.size)
      have HS : Hid (w4.heap.size ≤ W.heap.size) := hb.size
      have HXW : Hid (Below w4.heap.size w4 W) := hb
      clear hb
      obtain rfl := Option.some.inj ho
      clear ho hd
      intro K hK
      simp only [List.take, putsT, put_mk, List.setIfInBounds_toArray, List.set_cons_succ, List.set_cons_zero] at hK ⊢
      have HK : Hid _ := hK
      clear hK
      go_wp2_with fail
      exact HK.out _ _ ((Below.refl _ _).alloc (Nat.le_refl _) _) ⟨_, rfl, HS.out, BoxN.new _ _ _⟩
    case g11 =>
      intro o ho vs W hb hd
      have HBW : Hid (Below w0.heap.size w0 W) := HB4.out.trans (hb.mono HB4.out.size)
      have HS : Hid (w4.heap.size ≤ W.heap.size) := hb.size
      have HXW : Hid (Below w4.heap.size w4 W) := hb
      clear hb
      obtain rfl := Option.some.inj ho
      obtain ⟨a1, c1, h8, how⟩ := hd 8 (by decide) (by kernel_rfl)
      clear ho hd
      intro K hK
      simp only [List.take, putsT, put_mk, List.setIfInBounds_toArray, List.set_cons_succ, List.set_cons_zero] at hK ⊢
      rw [h8] at hK ⊢
      clear h8
      have HK : Hid _ := hK
      clear hK
      have HP3 := hidden how
      clear how
      go_wp2_with fail
      exact HK.out _ _ (Below.refl _ _) ⟨a1, c1, rfl, HP3.out⟩
  intro vs W hb hd
  have HBW : Hid (Below w0.heap.size w0 W) := HB4.out.trans (hb.mono HB4.out.size)
  have HS : Hid (w4.heap.size ≤ W.heap.size) := hb.size
  have HXW : Hid (Below w4.heap.size w4 W) := hb
  clear hb
  simp only [List.take, List.drop, putsT, put_mk, List.setIfInBounds_toArray, List.set_cons_succ, List.set_cons_zero]
  obtain ⟨ga, gc, h13, ho13⟩ := hd 11 (by decide)
  obtain ⟨gv, gd, h11, hf11⟩ := hd 9 (by decide)
  obtain ⟨bg, h12, hlp, hbp⟩ := hd 10 (by decide)
  rw [h13, h11, h12]
  clear h13 h11 h12 hd
  have d0 := hbp.cell 0 rfl
  have d1 := hbp.cell 1 rfl
  have f0 := hbp.frozen 0
  have f1 := hbp.frozen 1
  obtain ⟨w5, hw2⟩ : ∃ w5, (W.setCell ⟨bg, 0, none⟩ (.int .i64 m)).setCell ⟨bg, 1, none⟩ (.slice gv jw gd) = w5 := ⟨_, rfl⟩
  have HAg : Hid (AP w5 w4.heap.size m bg gv jw gd ys ga kw gc bs) := by
    have h1 := own_apart (t := 32) (by decide) ho13.1 hbp
    have h2 := own_apart (t := 32) (by decide) hf11.1 hbp
    show AP _ _ _ _ _ _ _ _ _ _ _ _
    rw [← hw2]
    exact ⟨(hbp.set 0 _).set 1 _, ⟨own_put (own_put hf11.1 h2) h2, hf11.2⟩, ⟨own_put (own_put ho13.1 h1) h1, ho13.2⟩⟩
  have HGw5 : Hid (Below w4.heap.size w4 w5) := by
    show Below _ _ _
    rw [← hw2]
    exact (HXW.out.setCell hlp _).setCell hlp _
  have HLbg : Hid (w4.heap.size ≤ bg) := hlp
  have HEw5 : Hid (_ = w5) := hw2
  clear hw2 hbp ho13 hf11 HS HXW HBW hlp 
  go_upto_region 14 with fail
  rw [HEw5.out]
  clear HEw5 d0 d1 f0 f1
  have HB5 : Hid (Below w0.heap.size w0 w5) := HB4.out.trans (HGw5.out.mono HB4.out.size)
  have HAw5 : Hid (AP w5 x1.heap.size m bw va jw vc ys wa kw wc bs) := HAw4.out.stays HGw5.out
  have HX5 : Hid (BoxN w5 bx 32 [.int .i64 m, .slice (some ⟨g3, 0, none⟩) len len] ∧ OwnF w5 w2.heap.size (.slice (some ⟨g3, 0, none⟩) len len) len xs) := ⟨HX4.out.1.stays HGw5.out, HX4.out.2.stays HGw5.out⟩
  have HY5 : Hid (Owns w5 w3.heap.size (some ⟨g4, 0, none⟩) L L zs) := HY4.out.below HGw5.out
  have hz45 : w4.heap.size ≤ w5.heap.size := HGw5.out.size
  clear HGw5 HAw4 HX4 HY4 HB4
  go_wp2_with fail
  refine (eqByteS_same ga wa kw gc wc bs w5 HAg.out.2.2.seg HAw5.out.2.2.seg (by omega)).mono ?_
  rintro e yw6 ⟨rfl, hst⟩
  have HS1 : Hid (Below w5.heap.size w5 yw6) := Still.below hst (Below.refl _ _)
  have HS2 : Hid (Flds yw6 gv jw ys ∧ Flds yw6 va jw ys) := ⟨(HAg.out.stays HS1.out).2.1.flds, (HAw5.out.stays HS1.out).2.1.flds⟩
  obtain ⟨c0, c1, _, _⟩ := (HAw5.out.stays HS1.out).1.cells
  obtain ⟨c2, c3, _, _⟩ := (HAg.out.stays HS1.out).1.cells
  clear hst
  go_wp2_with fail
  refine (eqTable_same m _ _ jw _ _ ys yw6 HS2.out.1 HS2.out.2 (by omega)).mono ?_
  rintro e w6 ⟨rfl, hb9⟩
  have hbb : Below w5.heap.size w5 w6 := HS1.out.trans (hb9.mono HS1.out.size)
  have HBw6 : Hid (Below w0.heap.size w0 w6) := HB5.out.trans (hbb.mono HB5.out.size)
  have HAw6 : Hid (AP w6 x1.heap.size m bw va jw vc ys wa kw wc bs) := HAw5.out.stays hbb
  have HAg6 : Hid (AP w6 w4.heap.size m bg gv jw gd ys ga kw gc bs) := HAg.out.stays hbb
  have HX6 : Hid (BoxN w6 bx 32 [.int .i64 m, .slice (some ⟨g3, 0, none⟩) len len] ∧ OwnF w6 w2.heap.size (.slice (some ⟨g3, 0, none⟩) len len) len xs) := ⟨HX5.out.1.stays hbb, HX5.out.2.stays hbb⟩
  have HY6 : Hid (Owns w6 w3.heap.size (some ⟨g4, 0, none⟩) L L zs) := HY5.out.below hbb
  clear hb9 hbb HS1 HS2 c0 c1 c2 c3 HAw5 HAg HX5 HY5 HB5
  go_upto_region 16 with fail
  refine wp_region_grow 4 [Stay.val (.agg #[.int .i64 m, .slice (some ⟨g3, 0, none⟩) len len]), Stay.val (.agg #[.int .i64 m, .slice a len ca]), ⟨fun v W => ∃ (g : Nat), v = .agg #[.int .i64 m, .slice (some ⟨g, 0, none⟩) len len] ∧ Flds W (some ⟨g, 0, none⟩) len xs, fun ⟨g, h0, h1⟩ hb => ⟨g, h0, h1.below hb⟩⟩, Stay.val (.bool true)] (by kernel_rfl) (by kernel_rfl) ?_ ?_
  · refine (all_succ (all_succ (all_succ (all_succ all_zero ?g0) ?g1) ?g2) ?g3)
    case g0 =>
      intro o ho vs W hb hd
      have HBW : Hid (Below w0.heap.size w0 W) := HBw6.out.trans (hb.mono HBw6.out.size)
      have HS : Hid (w6.heap.size ≤ W.heap.size) := hb.size
      have HXW : Hid (Below w6.heap.size w6 W) := hb
      clear hb
      obtain rfl := Option.some.inj ho
      clear ho hd
      have hq := (HX6.out.1.stays HXW.out)
      have c0 := hq.cell 0 rfl
      have c1 := hq.cell 1 rfl
      clear hq
      intro K hK
      simp only [List.take, putsT, put_mk, List.setIfInBounds_toArray, List.set_cons_succ, List.set_cons_zero] at hK ⊢
      have HK : Hid _ := hK
      clear hK
      go_wp2_with fail
      exact HK.out _ _ (Below.refl _ _) rfl
    case g1 =>
      intro o ho vs W hb hd
      have HBW : Hid (Below w0.heap.size w0 W) := HBw6.out.trans (hb.mono HBw6.out.size)
      have HS : Hid (w6.heap.size ≤ W.heap.size) := hb.size
      have HXW : Hid (Below w6.heap.size w6 W) := hb
      clear hb
      obtain rfl := Option.some.inj ho
      clear ho hd
      have hq := (HX.out _ HBW.out).1
      have c0 := hq.cell 0 rfl
      have c1 := hq.cell 1 rfl
      clear hq
      intro K hK
      simp only [List.take, putsT, put_mk, List.setIfInBounds_toArray, List.set_cons_succ, List.set_cons_zero] at hK ⊢
      have HK : Hid _ := hK
      clear hK
      go_wp2_with fail
      exact HK.out _ _ (Below.refl _ _) rfl
    case g2 =>
      intro o ho vs W hb hd
      have HBW : Hid (Below w0.heap.size w0 W) := HBw6.out.trans (hb.mono HBw6.out.size)
      have HS : Hid (w6.heap.size ≤ W.heap.size) := hb.size
      have HXW : Hid (Below w6.heap.size w6 W) := hb
      clear hb
      obtain rfl := Option.some.inj ho
      have h1 : vs 1 = _ := hd 1 (by decide) (by kernel_rfl)
      clear ho hd
      intro K hK
      simp only [List.take, putsT, put_mk, List.setIfInBounds_toArray, List.set_cons_succ, List.set_cons_zero] at hK ⊢
      rw [h1] at hK ⊢
      clear h1
      have HK : Hid _ := hK
      clear hK
      go_wp2_with fail
      refine (HTt.out _ HBW.out).mono ?_
      rintro e w' ⟨⟨g, rfl, how⟩, hb⟩
      go_wp2_with fail
      exact HK.out _ _ hb ⟨g, rfl, how.flds⟩
    case g3 =>
      intro o ho vs W hb hd
      have HBW : Hid (Below w0.heap.size w0 W) := HBw6.out.trans (hb.mono HBw6.out.size)
      have HS : Hid (w6.heap.size ≤ W.heap.size) := hb.size
      have HXW : Hid (Below w6.heap.size w6 W) := hb
      clear hb
      obtain rfl := Option.some.inj ho
      have h0 : vs 0 = _ := hd 0 (by decide) (by kernel_rfl)
      obtain ⟨g1, h2, ho2⟩ := hd 2 (by decide) (by kernel_rfl)
      clear ho hd
      intro K hK
      simp only [List.take, putsT, put_mk, List.setIfInBounds_toArray, List.set_cons_succ, List.set_cons_zero] at hK ⊢
      rw [h0, h2] at hK ⊢
      clear h0 h2
      have HK : Hid _ := hK
      clear hK
      have HO2 := hidden ho2
      clear ho2
      go_wp2_with fail
      refine (eqTable_same m _ _ len _ _ xs W (HX6.out.2.stays HXW.out).flds HO2.out (by omega)).mono ?_
      rintro e w' ⟨rfl, hb⟩
      go_wp2_with fail
      exact HK.out _ _ hb rfl
  intro vs W hb hd
  have HBW : Hid (Below w0.heap.size w0 W) := HBw6.out.trans (hb.mono HBw6.out.size)
  have HS : Hid (w6.heap.size ≤ W.heap.size) := hb.size
  have HXW : Hid (Below w6.heap.size w6 W) := hb
  clear hb
  simp only [List.take, List.drop, putsT, put_mk, List.setIfInBounds_toArray, List.set_cons_succ, List.set_cons_zero]
  have h3 := hd 3 (by decide)
  have h3 : vs 3 = .bool true := h3
  rw [h3]
  clear h3 hd HS
  have HAw7 : Hid (AP W x1.heap.size m bw va jw vc ys wa kw wc bs) := HAw6.out.stays HXW.out
  have HAg7 : Hid (AP W w4.heap.size m bg gv jw gd ys ga kw gc bs) := HAg6.out.stays HXW.out
  have HX7 : Hid (OwnF W w2.heap.size (.slice (some ⟨g3, 0, none⟩) len len) len xs ∧ BoxN W bx 32 [.int .i64 m, .slice (some ⟨g3, 0, none⟩) len len]) := ⟨HX6.out.2.stays HXW.out, HX6.out.1.stays HXW.out⟩
  have HY7 : Hid (Owns W w3.heap.size (some ⟨g4, 0, none⟩) L L zs) := HY6.out.below HXW.out
  clear HAw6 HAg6 HX6 HY6 HXW HBw6
  go_wp2_with fail
  refine (HTb.out _ HBW.out).mono ?_
  rintro e y8 ⟨⟨g8, rfl, ho⟩, hb⟩
  have HS8 : Hid (Seg y8 (some ⟨g8, 0, none⟩) L zs ∧ Below W.heap.size W y8) := ⟨ho.seg, hb⟩
  clear ho hb
  go_wp2_with fail
  refine (eqByteS_same (some ⟨g4, 0, none⟩) (some ⟨g8, 0, none⟩) L L L zs y8 (HY7.out.below HS8.out.2).seg HS8.out.1 (by omega)).mono ?_
  rintro e w8 ⟨rfl, hst⟩
  have hbb : Below W.heap.size W w8 := Still.below hst HS8.out.2
  have HB8 : Hid (Below w0.heap.size w0 w8) := HBW.out.trans (hbb.mono HBW.out.size)
  have HAw8 : Hid (AP w8 x1.heap.size m bw va jw vc ys wa kw wc bs) := HAw7.out.stays hbb
  have HAg8 : Hid (AP w8 w4.heap.size m bg gv jw gd ys ga kw gc bs) := HAg7.out.stays hbb
  have HY8 : Hid (Owns w8 w3.heap.size (some ⟨g4, 0, none⟩) L L zs) := HY7.out.below hbb
  have HX8 : Hid (OwnF w8 w2.heap.size (.slice (some ⟨g3, 0, none⟩) len len) len xs) := HX7.out.1.stays hbb
  obtain ⟨c0, c1⟩ := (show _ ∧ _ from ⟨(HX7.out.2.stays hbb).cell 0 rfl, (HX7.out.2.stays hbb).cell 1 rfl⟩)
  have HZ : Hid (w0.heap.size ≤ w2.heap.size ∧ w2.heap.size ≤ g3 ∧ g3 < w3.heap.size ∧ w3.heap.size ≤ g4 ∧ g4 < w4.heap.size) := ⟨HB2.out.size, (HX8.out.lt g3 rfl).1, by omega, (HY8.out.lt g4 rfl).1, HZ4.out⟩
  clear hst hbb HS8 HAw7 HAg7 HY7 HX7 HBW
  go_wp2_with fail
  refine (markT_any w2.heap.size m (some ⟨g3, 0, none⟩) len len xs w8 HX8.out (by omega)).mono ?_
  rintro e z1 ⟨rfl, _, hgr⟩
  have hgr' : w8.grownBy z1 (some g3) := hgr
  have hlo : ∀ k, (some g3 : Option Nat) = some k → k = g3 := fun k e => (Option.some.inj e).symm
  have HAw9 : Hid (AP z1 x1.heap.size m bw va jw vc ys wa kw wc bs) := HAw8.out.above HLow.out hgr' (fun k e => by have := hlo k e; have := HZ.out; omega)
  have HAg9 : Hid (AP z1 w4.heap.size m bg gv jw gd ys ga kw gc bs) := HAg8.out.grown hgr' (fun e => by injection e with e; have := HZ.out; have := HLbg.out; omega) (fun k e e2 => by have := hlo k e; have := (HAg8.out.2.1.lt k (by rw [ownBlock_slice]; exact e2)).1; have := HZ.out; omega) (fun k e e2 => by have := hlo k e; have := (HAg8.out.2.2.lt k e2).1; have := HZ.out; omega)
  have HY9 : Hid (Owns z1 w3.heap.size (some ⟨g4, 0, none⟩) L L zs) := owns_kept HY8.out hgr' (fun k e e2 => by have := hlo k e; injection e2 with e2; have := HZ.out; dsimp only at e2; omega)
  have HB9 : Hid (Below w0.heap.size w0 z1) := HB8.out.grown hgr' HB8.out.size (fun k e => by have := hlo k e; have := HZ.out; omega)
  clear hgr hgr' hlo HAw8 HAg8 HY8 HX8 HB8 c0 c1
  obtain ⟨km, hkm⟩ : ∃ km, 1 + 2 * len = km := ⟨_, rfl⟩
  have hkm2 : km ≤ 2097153 := by omega
  rw [hkm]
  clear hkm
  go_wp2_with fail
  refine (mark_any w3.heap.size (some ⟨g4, 0, none⟩) L L km zs z1 HY9.out (by omega) (by omega)).mono ?_
  rintro e z2 ⟨rfl, _, hgr⟩
  have hgr' : z1.grownBy z2 (some g4) := hgr
  have hlo : ∀ k, (some g4 : Option Nat) = some k → k = g4 := fun k e => (Option.some.inj e).symm
  have HAw10 : Hid (AP z2 x1.heap.size m bw va jw vc ys wa kw wc bs) := HAw9.out.above HLow.out hgr' (fun k e => by have := hlo k e; have := HZ.out; omega)
  have HAg10 : Hid (AP z2 w4.heap.size m bg gv jw gd ys ga kw gc bs) := HAg9.out.grown hgr' (fun e => by injection e with e; have := HZ.out; have := HLbg.out; omega) (fun k e e2 => by have := hlo k e; have := (HAg9.out.2.1.lt k (by rw [ownBlock_slice]; exact e2)).1; have := HZ.out; omega) (fun k e e2 => by have := hlo k e; have := (HAg9.out.2.2.lt k e2).1; have := HZ.out; omega)
  have HB10 : Hid (Below w0.heap.size w0 z2) := HB9.out.grown hgr' HB9.out.size (fun k e => by have := hlo k e; have := HZ.out; omega)
  clear hgr hgr' hlo HAw9 HAg9 HY9 HB9
  have hp1 : ¬ ((km + L : Nat) : Int) < 0 := by omega
  have hp1d : decide (((km + L : Nat) : Int) < 0) = false := by simp; omega
  generalize ((km + L : Nat) : Int) = q1 at *
  go_wp2_with fail
  refine (eqByteS_same ga wa kw gc wc bs z2 HAg10.out.2.2.seg HAw10.out.2.2.seg (by omega)).mono ?_
  rintro e yz3 ⟨rfl, hst⟩
  have HS1 : Hid (Below z2.heap.size z2 yz3) := Still.below hst (Below.refl _ _)
  have HS2 : Hid (Flds yz3 gv jw ys ∧ Flds yz3 va jw ys) := ⟨(HAg10.out.stays HS1.out).2.1.flds, (HAw10.out.stays HS1.out).2.1.flds⟩
  obtain ⟨c0, c1, _, _⟩ := (HAw10.out.stays HS1.out).1.cells
  obtain ⟨c2, c3, _, _⟩ := (HAg10.out.stays HS1.out).1.cells
  clear hst
  go_wp2_with fail
  refine (eqTable_same m _ _ jw _ _ ys yz3 HS2.out.1 HS2.out.2 (by omega)).mono ?_
  rintro e z3 ⟨rfl, hb9⟩
  have hbb : Below z2.heap.size z2 z3 := HS1.out.trans (hb9.mono HS1.out.size)
  have HBz3 : Hid (Below w0.heap.size w0 z3) := HB10.out.trans (hbb.mono HB10.out.size)
  have HAw11 : Hid (AP z3 x1.heap.size m bw va jw vc ys wa kw wc bs) := HAw10.out.stays hbb
  have HAg11 : Hid (AP z3 w4.heap.size m bg gv jw gd ys ga kw gc bs) := HAg10.out.stays hbb
  clear hb9 hbb HS1 HS2 c0 c1 c2 c3 HAw10 HAg10 HB10
  clear hp1 hp1d hkm2
  go_wp2_with fail
  refine (mark_one w4.heap.size ga kw gc bs z3 HAg11.out.2.2 (by omega)).mono ?_
  rintro e z4 ⟨rfl, hmk, hon⟩
  have hgr : z3.grownBy z4 (ga.map (·.block)) := hon
  have hlo : ∀ k, ga.map (·.block) = some k → w4.heap.size ≤ k := fun k e => (HAg11.out.2.2.lt k e).1
  have HAw12 : Hid (AP z4 x1.heap.size m bw va jw vc ys wa kw wc bs) := HAw11.out.above HLow.out hgr (fun k e => by have := hlo k e; have := HZ.out; omega)
  have HAg12 : Hid (AP z4 w4.heap.size m bg gv jw gd ys ga kw gc (marks 1 kw)) := by
    refine ⟨HAg11.out.1.grown hgr ?_, ownF_kept HAg11.out.2.1 hgr (fun k e => ?_), hmk⟩
    · have := own_other' HAg11.out.2.2.1 HAg11.out.1 (by decide)
      rwa [ownBlock_slice] at this
    · have := rows_apart HAg11.out.2.2.1 HAg11.out.2.1.1 (by decide) k (by rw [ownBlock_slice]; exact e)
      rwa [ownBlock_slice] at this
  have HB12 : Hid (Below w0.heap.size w0 z4) := HBz3.out.grown hgr HBz3.out.size (fun k e => by have := hlo k e; have := HZ.out; omega)
  clear hmk hon hgr hlo HAw11 HAg11 HBz3
  obtain ⟨k1, hk1⟩ : ∃ k1, 1 + kw = k1 := ⟨_, rfl⟩
  have hk1b : k1 ≤ 3000000001 := by omega
  have HHB : Hid (∀ W : World, Owns W w4.heap.size ga kw gc (marks 1 kw) → Calls Tryz.prog 15 #[.slice ga kw gc, .int .i64 1] W fun e w' => e = .returned (.int .i64 (k1 : Int)) ∧ w' = W) := fun W h => by
    rw [← hk1]
    exact held_one w4.heap.size ga kw gc W h (by omega)
  rw [hk1]
  clear hk1
  obtain ⟨c2, c3, _, _⟩ := HAg12.out.1.cells
  go_wp2_with fail
  refine (markTk_any w4.heap.size m gv jw gd k1 ys z4 HAg12.out.2.1 (by omega) (by omega)).mono ?_
  rintro e z5 ⟨rfl, hmk, hgr⟩
  have hlo : ∀ k, gv.map (·.block) = some k → w4.heap.size ≤ k := fun k e => (HAg12.out.2.1.lt k (by rw [ownBlock_slice]; exact e)).1
  have HAw13 : Hid (AP z5 x1.heap.size m bw va jw vc ys wa kw wc bs) := HAw12.out.above HLow.out hgr (fun k e => by have := hlo k e; have := HZ.out; omega)
  have HAg13 : Hid (AP z5 w4.heap.size m bg gv jw gd (marksF k1 jw) ga kw gc (marks 1 kw)) := by
    refine ⟨HAg12.out.1.grown hgr ?_, hmk, owns_kept HAg12.out.2.2 hgr (fun k e => ?_)⟩
    · have := own_other' HAg12.out.2.1.1 HAg12.out.1 (by decide)
      rwa [ownBlock_slice] at this
    · have := rows_apart HAg12.out.2.1.1 HAg12.out.2.2.1 (by decide) k (by rw [ownBlock_slice]; exact e)
      rwa [ownBlock_slice] at this
  have HB13 : Hid (Below w0.heap.size w0 z5) := HB12.out.grown hgr HB12.out.size (fun k e => by have := hlo k e; have := HZ.out; omega)
  clear hmk hgr hlo HAw12 HAg12 HB12 c2 c3
  obtain ⟨k2, hk2⟩ : ∃ k2, k1 + 2 * jw = k2 := ⟨_, rfl⟩
  have HHT : Hid (∀ W : World, Flds W gv jw (marksF k1 jw) → Calls Tryz.prog 16 #[.agg #[.int .i64 m, .slice gv jw gd], .int .i64 (k1 : Int)] W fun e w' => e = .returned (.int .i64 (k2 : Int)) ∧ Below W.heap.size W w') := fun W h => by
    rw [← hk2]
    exact heldTk_any m gv jw gd k1 W h (by omega) (by omega)
  rw [hk2]
  clear hk2
  have hp2 : ¬ (k1 : Int) < 0 := by omega
  have hp2d : decide ((k1 : Int) < 0) = false := by simp
  have hp3 : ¬ (k2 : Int) < 0 := by omega
  have hp3d : decide ((k2 : Int) < 0) = false := by simp
  have hp3e : ((k2 : Int) != (k2 : Int)) = false := by simp
  go_wp2_with fail
  refine (HHB.out z5 HAg13.out.2.2).mono ?_
  rintro e z6 ⟨rfl, hw⟩
  have hw := hw.symm
  subst hw
  obtain ⟨c2, c3, _, _⟩ := HAg13.out.1.cells
  go_wp2_with fail
  refine (HHT.out z5 HAg13.out.2.1.flds).mono ?_
  rintro e z7 ⟨rfl, hb7⟩
  have HAw14 : Hid (AP z7 x1.heap.size m bw va jw vc ys wa kw wc bs) := HAw13.out.stays hb7
  have HAg14 : Hid (AP z7 w4.heap.size m bg gv jw gd (marksF k1 jw) ga kw gc (marks 1 kw)) := HAg13.out.stays hb7
  have HB14 : Hid (Below w0.heap.size w0 z7) := HB13.out.trans (hb7.mono HB13.out.size)
  clear hb7 HAw13 HAg13 HB13 c2 c3
  go_upto_region 37 with fail
  refine wp_region_grow 14 [Stay.val (.agg #[.int .i64 m, .slice a len ca]), ⟨fun v W => ∃ (g : Nat), v = .agg #[.int .i64 m, .slice (some ⟨g, 0, none⟩) len len] ∧ Flds W (some ⟨g, 0, none⟩) len xs, fun ⟨g, h0, h1⟩ hb => ⟨g, h0, h1.below hb⟩⟩, Stay.val (.int .i64 s), Stay.val (.agg #[.int .i64 op, .string x, .int .i64 n]), Stay.val (.agg #[.int .i64 op, .string x, .int .i64 n]), Stay.val (.slice ba L C), ⟨fun v W => ∃ (g : Nat), v = .slice (some ⟨g, 0, none⟩) L L ∧ Seg W (some ⟨g, 0, none⟩) L zs, fun ⟨g, h0, h1⟩ hb => ⟨g, h0, h1.below hb⟩⟩, Stay.val (.int .i64 most), ⟨fun v W => ∃ (a1 : Option Addr) (c1 : Nat) (av : Option Addr) (cv : Nat), v = .tuple #[.slice a1 kw c1, .agg #[.int .i64 m, .slice av jw cv]] ∧ Owns W z7.heap.size a1 kw c1 bs ∧ OwnF W z7.heap.size (.slice av jw cv) jw ys, fun ⟨a1, c1, av, cv, h0, h1, h2⟩ hb => ⟨a1, c1, av, cv, h0, h1.below hb, h2.stays hb⟩⟩, ⟨fun v W => ∃ (a1 : Option Addr) (c1 : Nat) (av : Option Addr) (cv : Nat), v = .tuple #[.slice a1 kw c1, .agg #[.int .i64 m, .slice av jw cv]] ∧ Owns W z7.heap.size a1 kw c1 bs ∧ OwnF W z7.heap.size (.slice av jw cv) jw ys, fun ⟨a1, c1, av, cv, h0, h1, h2⟩ hb => ⟨a1, c1, av, cv, h0, h1.below hb, h2.stays hb⟩⟩, ⟨fun v W => ∃ (a1 : Option Addr) (c1 : Nat), v = .slice a1 kw c1 ∧ Owns W z7.heap.size a1 kw c1 bs, fun ⟨a1, c1, h0, h1⟩ hb => ⟨a1, c1, h0, h1.below hb⟩⟩, ⟨fun v W => ∃ (av : Option Addr) (cv : Nat), v = .agg #[.int .i64 m, .slice av jw cv] ∧ OwnF W z7.heap.size (.slice av jw cv) jw ys, fun ⟨av, cv, h0, h1⟩ hb => ⟨av, cv, h0, h1.stays hb⟩⟩, ⟨fun v W => ∃ (p : Nat), v = .pointer (some ⟨p, 0, none⟩) ∧ z7.heap.size ≤ p ∧ BoxN W p 32 [.int .i64 0, .slice none 0 0], fun ⟨p, h0, h1, h2⟩ hb => ⟨p, h0, h1, h2.stays hb⟩⟩, ⟨fun v W => ∃ (a1 : Option Addr) (c1 : Nat), v = .slice a1 kw c1 ∧ Owns W z7.heap.size a1 kw c1 bs, fun ⟨a1, c1, h0, h1⟩ hb => ⟨a1, c1, h0, h1.below hb⟩⟩] (by kernel_rfl) (by kernel_rfl) ?_ ?_
  · refine (all_succ (all_succ (all_succ (all_succ (all_succ (all_succ (all_succ (all_succ (all_succ (all_succ (all_succ (all_succ (all_succ (all_succ all_zero ?g0) ?g1) ?g2) ?g3) ?g4) ?g5) ?g6) ?g7) ?g8) ?g9) ?g10) ?g11) ?g12) ?g13)
    case g0 =>
      intro o ho vs W hb hd
      have HBW : Hid (Below w0.heap.size w0 W) := HB14.out.trans (hb.mono HB14.out.size)
      have HS : Hid (z7.heap.size ≤ W.heap.size) := hb.size
      have HXW : Hid (Below z7.heap.size z7 W) := hb
      clear hb
      obtain rfl := Option.some.inj ho
      clear ho hd
      have hq := (HX.out _ HBW.out).1
      have c0 := hq.cell 0 rfl
      have c1 := hq.cell 1 rfl
      clear hq
      intro K hK
      simp only [List.take, putsT, put_mk, List.setIfInBounds_toArray, List.set_cons_succ, List.set_cons_zero] at hK ⊢
      have HK : Hid _ := hK
      clear hK
      go_wp2_with fail
      exact HK.out _ _ (Below.refl _ _) rfl
    case g1 =>
      intro o ho vs W hb hd
      have HBW : Hid (Below w0.heap.size w0 W) := HB14.out.trans (hb.mono HB14.out.size)
      have HS : Hid (z7.heap.size ≤ W.heap.size) := hb.size
      have HXW : Hid (Below z7.heap.size z7 W) := hb
      clear hb
      obtain rfl := Option.some.inj ho
      have h0 : vs 0 = _ := hd 0 (by decide) (by kernel_rfl)
      clear ho hd
      intro K hK
      simp only [List.take, putsT, put_mk, List.setIfInBounds_toArray, List.set_cons_succ, List.set_cons_zero] at hK ⊢
      rw [h0] at hK ⊢
      clear h0
      have HK : Hid _ := hK
      clear hK
      go_wp2_with fail
      refine (HTt.out _ HBW.out).mono ?_
      rintro e w' ⟨⟨g, rfl, how⟩, hb⟩
      go_wp2_with fail
      exact HK.out _ _ hb ⟨g, rfl, how.flds⟩
    case g2 =>
      intro o ho vs W hb hd
      have HBW : Hid (Below w0.heap.size w0 W) := HB14.out.trans (hb.mono HB14.out.size)
      have HS : Hid (z7.heap.size ≤ W.heap.size) := hb.size
      have HXW : Hid (Below z7.heap.size z7 W) := hb
      clear hb
      obtain rfl := Option.some.inj ho
      clear ho hd
      intro K hK
      simp only [List.take, putsT, put_mk, List.setIfInBounds_toArray, List.set_cons_succ, List.set_cons_zero] at hK ⊢
      have HK : Hid _ := hK
      clear hK
      go_wp2_with fail
      exact HK.out _ _ (Below.refl _ _) rfl
    case g3 =>
      intro o ho vs W hb hd
      have HBW : Hid (Below w0.heap.size w0 W) := HB14.out.trans (hb.mono HB14.out.size)
      have HS : Hid (z7.heap.size ≤ W.heap.size) := hb.size
      have HXW : Hid (Below z7.heap.size z7 W) := hb
      clear hb
      obtain rfl := Option.some.inj ho
      clear ho hd
      have hq := (HX.out _ HBW.out).2.1
      have c0 := hq.cell 0 rfl
      have c1 := hq.cell 1 rfl
      have c2 := hq.cell 2 rfl
      clear hq
      intro K hK
      simp only [List.take, putsT, put_mk, List.setIfInBounds_toArray, List.set_cons_succ, List.set_cons_zero] at hK ⊢
      have HK : Hid _ := hK
      clear hK
      go_wp2_with fail
      exact HK.out _ _ (Below.refl _ _) rfl
    case g4 =>
      intro o ho vs W hb hd
      have HBW : Hid (Below w0.heap.size w0 W) := HB14.out.trans (hb.mono HB14.out.size)
      have HS : Hid (z7.heap.size ≤ W.heap.size) := hb.size
      have HXW : Hid (Below z7.heap.size z7 W) := hb
      clear hb
      obtain rfl := Option.some.inj ho
      have h3 : vs 3 = _ := hd 3 (by decide) (by kernel_rfl)
      clear ho hd
      intro K hK
      simp only [List.take, putsT, put_mk, List.setIfInBounds_toArray, List.set_cons_succ, List.set_cons_zero] at hK ⊢
      rw [h3] at hK ⊢
      clear h3
      have HK : Hid _ := hK
      clear hK
      go_wp2_with fail
      refine (toReq_any op x n W).mono ?_
      rintro e w' ⟨rfl, hb⟩
      go_wp2_with fail
      exact HK.out _ _ hb rfl
    case g5 =>
      intro o ho vs W hb hd
      have HBW : Hid (Below w0.heap.size w0 W) := HB14.out.trans (hb.mono HB14.out.size)
      have HS : Hid (z7.heap.size ≤ W.heap.size) := hb.size
      have HXW : Hid (Below z7.heap.size z7 W) := hb
      clear hb
      obtain rfl := Option.some.inj ho
      clear ho hd
      intro K hK
      simp only [List.take, putsT, put_mk, List.setIfInBounds_toArray, List.set_cons_succ, List.set_cons_zero] at hK ⊢
      have HK : Hid _ := hK
      clear hK
      go_wp2_with fail
      exact HK.out _ _ (Below.refl _ _) rfl
    case g6 =>
      intro o ho vs W hb hd
      have HBW : Hid (Below w0.heap.size w0 W) := HB14.out.trans (hb.mono HB14.out.size)
      have HS : Hid (z7.heap.size ≤ W.heap.size) := hb.size
      have HXW : Hid (Below z7.heap.size z7 W) := hb
      clear hb
      obtain rfl := Option.some.inj ho
      have h5 : vs 5 = _ := hd 5 (by decide) (by kernel_rfl)
      clear ho hd
      intro K hK
      simp only [List.take, putsT, put_mk, List.setIfInBounds_toArray, List.set_cons_succ, List.set_cons_zero] at hK ⊢
      rw [h5] at hK ⊢
      clear h5
      have HK : Hid _ := hK
      clear hK
      go_wp2_with fail
      refine (HTb.out _ HBW.out).mono ?_
      rintro e w' ⟨⟨g, rfl, how⟩, hb⟩
      go_wp2_with fail
      exact HK.out _ _ hb ⟨g, rfl, how.seg⟩
    case g7 =>
      intro o ho vs W hb hd
      have HBW : Hid (Below w0.heap.size w0 W) := HB14.out.trans (hb.mono HB14.out.size)
      have HS : Hid (z7.heap.size ≤ W.heap.size) := hb.size
      have HXW : Hid (Below z7.heap.size z7 W) := hb
      clear hb
      obtain rfl := Option.some.inj ho
      clear ho hd
      intro K hK
      simp only [List.take, putsT, put_mk, List.setIfInBounds_toArray, List.set_cons_succ, List.set_cons_zero] at hK ⊢
      have HK : Hid _ := hK
      clear hK
      go_wp2_with fail
      exact HK.out _ _ (Below.refl _ _) rfl
    case g8 =>
      intro o ho vs W hb hd
      have HBW : Hid (Below w0.heap.size w0 W) := HB14.out.trans (hb.mono HB14.out.size)
      have HS : Hid (z7.heap.size ≤ W.heap.size) := hb.size
      have HXW : Hid (Below z7.heap.size z7 W) := hb
      clear hb
      obtain rfl := Option.some.inj ho
      obtain ⟨g1, h1, ho1⟩ := hd 1 (by decide) (by kernel_rfl)
      have h2 : vs 2 = _ := hd 2 (by decide) (by kernel_rfl)
      have h4 : vs 4 = _ := hd 4 (by decide) (by kernel_rfl)
      obtain ⟨g2, h6, ho2⟩ := hd 6 (by decide) (by kernel_rfl)
      have h7 : vs 7 = _ := hd 7 (by decide) (by kernel_rfl)
      clear ho hd
      intro K hK
      simp only [List.take, putsT, put_mk, List.setIfInBounds_toArray, List.set_cons_succ, List.set_cons_zero] at hK ⊢
      rw [h1, h2, h4, h6, h7] at hK ⊢
      clear h1 h2 h4 h6 h7
      have HK : Hid _ := hK
      clear hK
      have HO1 := hidden ho1
      have HO2 := hidden ho2
      clear ho1 ho2
      go_wp2_with fail
      refine (HI2.out g1 g2 W HBW.out HO1.out HO2.out).mono ?_
      rintro e w' ⟨⟨a1, c1, av, cv, rfl, how, hf⟩, hb⟩
      go_wp2_with fail
      exact HK.out _ _ hb ⟨a1, c1, av, cv, rfl, how.low HS.out, own_down hf.1 HS.out, hf.2⟩
    case g9 =>
      intro o ho vs W hb hd
      have HBW : Hid (Below w0.heap.size w0 W) := HB14.out.trans (hb.mono HB14.out.size)
      have HS : Hid (z7.heap.size ≤ W.heap.size) := hb.size
      have HXW : Hid (Below z7.heap.size z7 W) := hb
      clear hb
      obtain rfl := Option.some.inj ho
      obtain ⟨a1, c1, av, cv, h8, how, hf⟩ := hd 8 (by decide) (by kernel_rfl)
      clear ho hd
      intro K hK
      simp only [List.take, putsT, put_mk, List.setIfInBounds_toArray, List.set_cons_succ, List.set_cons_zero] at hK ⊢
      rw [h8] at hK ⊢
      clear h8
      have HK : Hid _ := hK
      clear hK
      have HP3 := hidden (And.intro how hf)
      clear how hf
      go_wp2_with fail
      exact HK.out _ _ (Below.refl _ _) ⟨a1, c1, av, cv, rfl, HP3.out⟩
    case g10 =>
      intro o ho vs W hb hd
      have HBW : Hid (Below w0.heap.size w0 W) := HB14.out.trans (hb.mono HB14.out.size)
      have HS : Hid (z7.heap.size ≤ W.heap.size) := hb.size
      have HXW : Hid (Below z7.heap.size z7 W) := hb
      clear hb
      obtain rfl := Option.some.inj ho
      obtain ⟨a1, c1, av, cv, h9, how, hf⟩ := hd 9 (by decide) (by kernel_rfl)
      clear ho hd
      intro K hK
      simp only [List.take, putsT, put_mk, List.setIfInBounds_toArray, List.set_cons_succ, List.set_cons_zero] at hK ⊢
      rw [h9] at hK ⊢
      clear h9
      have HK : Hid _ := hK
      clear hK
      have HP3 := hidden how
      clear how hf
      go_wp2_with fail
      exact HK.out _ _ (Below.refl _ _) ⟨a1, c1, rfl, HP3.out⟩
    case g11 =>
      intro o ho vs W hb hd
      have HBW : Hid (Below w0.heap.size w0 W) := HB14.out.trans (hb.mono HB14.out.size)
      have HS : Hid (z7.heap.size ≤ W.heap.size) := hb.size
      have HXW : Hid (Below z7.heap.size z7 W) := hb
      clear hb
      obtain rfl := Option.some.inj ho
      obtain ⟨a1, c1, av, cv, h9, how, hf⟩ := hd 9 (by decide) (by kernel_rfl)
      clear ho hd
      intro K hK
      simp only [List.take, putsT, put_mk, List.setIfInBounds_toArray, List.set_cons_succ, List.set_cons_zero] at hK ⊢
      rw [h9] at hK ⊢
      clear h9
      have HK : Hid _ := hK
      clear hK
      have HP3 := hidden hf
      clear how hf
      go_wp2_with fail
      exact HK.out _ _ (Below.refl _ _) ⟨av, cv, rfl, HP3.out⟩
    case g12 =>
      intro o ho vs W hb hd
      have HBW : Hid (Below w0.heap.size w0 W) := HB14.out.trans (hb.mono HB14.out.size)
      have HS : Hid (z7.heap.size ≤ W.heap.size) := hb.size
      have HXW : Hid (Below z7.heap.size z7 W) := hb
      clear hb
      obtain rfl := Option.some.inj ho
      clear ho hd
      intro K hK
      simp only [List.take, putsT, put_mk, List.setIfInBounds_toArray, List.set_cons_succ, List.set_cons_zero] at hK ⊢
      have HK : Hid _ := hK
      clear hK
      go_wp2_with fail
      exact HK.out _ _ ((Below.refl _ _).alloc (Nat.le_refl _) _) ⟨_, rfl, HS.out, BoxN.new _ _ _⟩
    case g13 =>
      intro o ho vs W hb hd
      have HBW : Hid (Below w0.heap.size w0 W) := HB14.out.trans (hb.mono HB14.out.size)
      have HS : Hid (z7.heap.size ≤ W.heap.size) := hb.size
      have HXW : Hid (Below z7.heap.size z7 W) := hb
      clear hb
      obtain rfl := Option.some.inj ho
      obtain ⟨a1, c1, h10, how⟩ := hd 10 (by decide) (by kernel_rfl)
      clear ho hd
      intro K hK
      simp only [List.take, putsT, put_mk, List.setIfInBounds_toArray, List.set_cons_succ, List.set_cons_zero] at hK ⊢
      rw [h10] at hK ⊢
      clear h10
      have HK : Hid _ := hK
      clear hK
      have HP3 := hidden how
      clear how
      go_wp2_with fail
      exact HK.out _ _ (Below.refl _ _) ⟨a1, c1, rfl, HP3.out⟩
  intro vs W hb hd
  have HBW : Hid (Below w0.heap.size w0 W) := HB14.out.trans (hb.mono HB14.out.size)
  have HS : Hid (z7.heap.size ≤ W.heap.size) := hb.size
  have HXW : Hid (Below z7.heap.size z7 W) := hb
  clear hb
  simp only [List.take, List.drop, putsT, put_mk, List.setIfInBounds_toArray, List.set_cons_succ, List.set_cons_zero]
  obtain ⟨ra, rc, h13, ho13⟩ := hd 13 (by decide)
  obtain ⟨rv, rd, h11, hf11⟩ := hd 11 (by decide)
  obtain ⟨bh, h12, hlp, hbp⟩ := hd 12 (by decide)
  rw [h13, h11, h12]
  clear h13 h11 h12 hd
  have d0 := hbp.cell 0 rfl
  have d1 := hbp.cell 1 rfl
  have f0 := hbp.frozen 0
  have f1 := hbp.frozen 1
  obtain ⟨z8, hw2⟩ : ∃ z8, (W.setCell ⟨bh, 0, none⟩ (.int .i64 m)).setCell ⟨bh, 1, none⟩ (.slice rv jw rd) = z8 := ⟨_, rfl⟩
  have HAr : Hid (AP z8 z7.heap.size m bh rv jw rd ys ra kw rc bs) := by
    have h1 := own_apart (t := 32) (by decide) ho13.1 hbp
    have h2 := own_apart (t := 32) (by decide) hf11.1 hbp
    show AP _ _ _ _ _ _ _ _ _ _ _ _
    rw [← hw2]
    exact ⟨(hbp.set 0 _).set 1 _, ⟨own_put (own_put hf11.1 h2) h2, hf11.2⟩, ⟨own_put (own_put ho13.1 h1) h1, ho13.2⟩⟩
  have HGz8 : Hid (Below z7.heap.size z7 z8) := by
    show Below _ _ _
    rw [← hw2]
    exact (HXW.out.setCell hlp _).setCell hlp _
  have HLbh : Hid (z7.heap.size ≤ bh) := hlp
  have HEz8 : Hid (_ = z8) := hw2
  clear hw2 hbp ho13 hf11 HS HXW HBW hlp 
  go_upto_region 38 with fail
  rw [HEz8.out]
  clear HEz8 d0 d1 f0 f1
  have HB15 : Hid (Below w0.heap.size w0 z8) := HB14.out.trans (HGz8.out.mono HB14.out.size)
  have HAw15 : Hid (AP z8 x1.heap.size m bw va jw vc ys wa kw wc bs) := HAw14.out.stays HGz8.out
  have HAg15 : Hid (AP z8 w4.heap.size m bg gv jw gd (marksF k1 jw) ga kw gc (marks 1 kw)) := HAg14.out.stays HGz8.out
  clear HGz8 HAw14 HAg14 HB14 HLbh
  go_wp2_with fail
  refine (eqByteS_same ra wa kw rc wc bs z8 HAr.out.2.2.seg HAw15.out.2.2.seg (by omega)).mono ?_
  rintro e yz9 ⟨rfl, hst⟩
  have HS1 : Hid (Below z8.heap.size z8 yz9) := Still.below hst (Below.refl _ _)
  have HS2 : Hid (Flds yz9 rv jw ys ∧ Flds yz9 va jw ys) := ⟨(HAr.out.stays HS1.out).2.1.flds, (HAw15.out.stays HS1.out).2.1.flds⟩
  obtain ⟨c0, c1, _, _⟩ := (HAw15.out.stays HS1.out).1.cells
  obtain ⟨c2, c3, _, _⟩ := (HAr.out.stays HS1.out).1.cells
  clear hst
  go_wp2_with fail
  refine (eqTable_same m _ _ jw _ _ ys yz9 HS2.out.1 HS2.out.2 (by omega)).mono ?_
  rintro e z9 ⟨rfl, hb9⟩
  have hbb : Below z8.heap.size z8 z9 := HS1.out.trans (hb9.mono HS1.out.size)
  have HBz9 : Hid (Below w0.heap.size w0 z9) := HB15.out.trans (hbb.mono HB15.out.size)
  have HAgz9 : Hid (AP z9 w4.heap.size m bg gv jw gd (marksF k1 jw) ga kw gc (marks 1 kw)) := HAg15.out.stays hbb
  clear hb9 hbb HS1 HS2 c0 c1 c2 c3 HAg15 HB15
  go_wp2_with fail
  refine (HHB.out z9 HAgz9.out.2.2).mono ?_
  rintro e z10 ⟨rfl, hw⟩
  have hw := hw.symm
  subst hw
  obtain ⟨c2, c3, _, _⟩ := HAgz9.out.1.cells
  go_wp2_with fail
  refine (HHT.out z9 HAgz9.out.2.1.flds).mono ?_
  rintro e z11 ⟨rfl, hb11⟩
  have HEn : Hid (Below w.heap.size w z11) := (HX.out _ (HBz9.out.trans (hb11.mono HBz9.out.size))).2.2.2.2
  clear hb11 HBz9 HAgz9 c2 c3
  go_wp2_with fail
  go_ret
  exact ⟨rfl, HEn.out⟩

end Go.Proofs.YtbaijmkghgnleaaGreatDoor
