/- The law that drawn data that is padded comes back, by frames of data and of headers; without the flag nothing is taken away. -/
import Derived.Test.YtghakpcagacdaadUnp
import Derived.Test.YtghakpcagacdaadWin
import Derived.Test.YtghakpcagacdaadDrawSome
import Derived.Test.YtghakpcagacdaadSameB
import Derived.Test.YtghakpcagacdaadLawBig
namespace Go.Proofs.Ytghakpcagacdaad
open Go.RowKit
set_option linter.unusedVariables false

theorem padCut_padB (zs : List Int) (m : Nat) : padCut (padB zs m) = some zs := by
  have h0 : (padB zs m).getD 0 0 = (m : Int) := rfl
  rw [padCut, h0, Int.toNat_natCast, padB_len, if_pos (by omega)]
  congr 1
  rw [show 1 + zs.length + m - m - 1 = zs.length by omega, padB, List.drop_succ_cons, List.drop_zero, List.take_append_of_le_length (Nat.le_refl _), List.take_length]

theorem unpad_data (zs : List Int) (m : Nat) : unpadR (bits .and .i64 8 8 != 0) (((0 : Int) == 1) && (bits .and .i64 8 32 != 0)) (padB zs m) = some zs := by
  rw [show (bits .and .i64 8 8 != 0) = true from by kernel_rfl, show (((0 : Int) == 1) && (bits .and .i64 8 32 != 0)) = false from by kernel_rfl]
  simp [unpadR, padCut_padB]

theorem unpad_head (zs : List Int) (m : Nat) : unpadR (bits .and .i64 8 8 != 0) (((1 : Int) == 1) && (bits .and .i64 8 32 != 0)) (padB zs m) = some zs := by
  rw [show (bits .and .i64 8 8 != 0) = true from by kernel_rfl, show (((1 : Int) == 1) && (bits .and .i64 8 32 != 0)) = false from by kernel_rfl]
  simp [unpadR, padCut_padB]

theorem unpad_plain (zs : List Int) : unpadR (bits .and .i64 0 8 != 0) (((0 : Int) == 1) && (bits .and .i64 0 32 != 0)) zs = some zs := by
  rw [show (bits .and .i64 0 8 != 0) = false from by kernel_rfl, show (((0 : Int) == 1) && (bits .and .i64 0 32 != 0)) = false from by kernel_rfl]
  simp [unpadR]

theorem win_five : winR [128, 0, 0, 5] = (5, true) := by
  have h : bits .and .i64 (gb ([128, 0, 0, 5].take 4)) 2147483647 = 5 := by kernel_rfl
  rw [winR, h]
  rfl

set_option maxRecDepth 10000 in
set_option maxHeartbeats 800000 in
theorem drawPad_any (a : Option Addr) (len cap : Nat) (zs : List Int) (w : World) (hs : Seg w a len zs) (hl : len ≤ 1099511627776) :
    Calls Try.prog 5 #[.slice a len cap] w fun e w' => ∃ (g n cp : Nat) (ys : List Int) (x : Int), e = .returned (.tuple #[.slice (some ⟨g, 0, none⟩) n cp, .int .i64 x]) ∧ n ≤ 9 ∧ Seg w' (some ⟨g, 0, none⟩) n ys ∧ Below w.heap.size w w' := by
  have HS : Hid (Seg w a len zs) := hs
  clear hs
  go_enter Try.func5, Try.ntmps5
  go_wp2_with fail
  refine (l1New_any a len cap zs w HS.out hl).mono ?_
  rintro e w1 ⟨rfl, hc1, hb1⟩
  have HB1 : Hid (Below w.heap.size w w1) := hb1
  have HC1 : Hid (Cur w1 w.heap.size w.heap.size a len cap zs) := hc1
  have hcl : w.heap.size < w1.heap.size := hc1.lt
  clear hc1 hb1
  go_wp2_with fail
  refine (l1Some_b _ _ a len cap zs w1 HC1.out hl).mono ?_
  rintro e w2 ⟨g, n, cp, ys, rfl, hn, hg, ho2, hc2, hg2⟩
  have HO2 : Hid (Owns w2 w1.heap.size (some ⟨g, 0, none⟩) n cp ys) := ho2
  have HC2 : Hid (Cur w2 w.heap.size w.heap.size a len cap zs) := hc2
  have HB2 : Hid (Below w.heap.size w w2) := HB1.out.grown hg2 HB1.out.size (fun k hk => by injection hk with hk; omega)
  have hcl2 : w.heap.size < w2.heap.size := hc2.lt
  have HO3 : Hid (Owns (w2.alloc (.cells #[.int .i64 0, .int .i64 1, .int .i64 7, .int .i64 255, .int .i64 256, .int .i64 (-1)] 3)) w1.heap.size (some ⟨g, 0, none⟩) n cp ys) := ho2.below ((Below.refl _ _).alloc (Nat.le_refl _) _)
  clear ho2 hc2 hg2 HC1
  go_wp2_with fail
  refine (l1Int_any _ _ a len cap zs w2.heap.size 6 6 [0, 1, 7, 255, 256, -1] _ (HC2.out.kept (World.grownBy_alloc w2 _ none) (by simp)) hl (heap_alloc_new w2 _) (by omega) rfl (by omega) (by omega)).mono ?_
  rintro e w3 ⟨x, rfl, hx, hc3, hg3⟩
  have HB3 : Hid (Below w.heap.size w w3) := (HB2.out.alloc HB2.out.size _).grown hg3 (by simp; omega) (fun k hk => by injection hk with hk; omega)
  have HO4 : Hid (Seg w3 (some ⟨g, 0, none⟩) n ys) := by
    show Seg _ _ _ _
    have h : Owns w3 w1.heap.size (some ⟨g, 0, none⟩) n cp ys := HO3.out.only (b := some ⟨w.heap.size, 0, none⟩) hg3 (.inr (fun h => by simp at h; omega))
    exact h.seg
  clear hx hc3 hg3 HC2 HO2 HO3
  go_wp2_with fail
  go_ret2
  exact ⟨g, n, cp, ys, x, rfl, hn, HO4.out, HB3.out⟩

set_option maxRecDepth 10000 in
set_option maxHeartbeats 3200000 in
theorem lawPad_any (a : Option Addr) (len cap : Nat) (zs : List Int) (w : World) (hm : len ≤ maxLen) (hs : Seg w a len zs) :
    Calls Try.prog 3 #[.slice a len cap] w fun e w' => e = .returned (.bool true) ∧ Below w.heap.size w w' := by
  have HS : Hid (Seg w a len zs) := hs
  clear hs
  by_cases hbig : (1048576 : Int) < (len : Int)
  · have hd : Hid (decide ((1048576 : Int) < (len : Int)) = true) := by show _ = _; simpa using hbig
    go_enter Try.func3, Try.ntmps3
    go_wp2_with fail
    refine (big_any a len cap w hm).mono ?_
    rintro e w1 ⟨rfl, hw1⟩
    subst w1
    rw [hd.out]
    go_wp2_with fail
    go_ret
    exact ⟨rfl, Below.refl _ _⟩
  have hd : Hid (decide ((1048576 : Int) < (len : Int)) = false) := by show _ = _; simpa using hbig
  have hl : len ≤ 1099511627776 := by omega
  clear hbig
  go_enter Try.func3, Try.ntmps3
  go_wp2_with fail
  refine (big_any a len cap w hm).mono ?_
  rintro e w1 ⟨rfl, hw1⟩
  subst w1
  rw [hd.out]
  go_wp2_with fail
  refine (drawPad_any a len cap zs w HS.out hl).mono ?_
  rintro e w2 ⟨g, n, cp, ys, x, rfl, hn9, hs2, hb2⟩
  have HD2 : Hid (Seg w2 (some ⟨g, 0, none⟩) n ys) := hs2
  have HB2 : Hid (Below w.heap.size w w2) := hb2
  obtain ⟨M, hM⟩ : ∃ M, padN x = M := ⟨_, rfl⟩
  have HM : Hid (padN x = M) := hM
  have hMb : M ≤ 255 := by have := padN_le x; omega
  obtain ⟨T, hT⟩ : ∃ T, 1 + n + M = T := ⟨_, rfl⟩
  have HT : Hid (1 + n + M = T) := hT
  have hTb : T ≤ 1048576 := by omega
  have HYL : Hid (ys.length = n) := hs2.1
  have hTn : Hid (¬ (T : Int) < (n : Int) + 1) := by show ¬ _; omega
  have hTn2 : Hid ((n : Int) + 1 ≤ (T : Int)) := by show _ ≤ _; omega
  clear hs2 hb2 hM hT
  go_wp2_with fail
  refine (implPad_any _ n cp x M T ys w2 HD2.out (by omega) HM.out HT.out).mono ?_
  rintro e w3 ⟨gp, cpp, rfl, ho3, hb3⟩
  have HCp : Hid (T ≤ cpp) := by
    show _ ≤ _
    rcases ho3.1.2 with ⟨he, h0⟩ | ⟨g', cap', cur, he, _, _, hc, _⟩
    · cases he
    · injection he with _ _ h3
      omega
  have HP3 : Hid (Seg w3 (some ⟨gp, 0, none⟩) T (padB ys M)) := ho3.seg
  have HD3 : Hid (Seg w3 (some ⟨g, 0, none⟩) n ys) := HD2.out.below hb3
  have HB3 : Hid (Below w.heap.size w w3) := HB2.out.trans (hb3.mono HB2.out.size)
  clear ho3 hb3 HD2 HB2
  go_wp2_with fail
  refine (implUnp_any 0 8 1 _ T cpp _ w3 HP3.out HCp.out hTb (some ys) n (unpad_data ys M) (by simpa using HYL.out)).mono ?_
  rintro e w4 ⟨ax, cx, rfl, ho4, hb4⟩
  have HX4 : Hid (Seg w4 ax n ys) := ho4.seg
  have HP4 : Hid (Seg w4 (some ⟨gp, 0, none⟩) T (padB ys M)) := HP3.out.below hb4
  have HD4 : Hid (Seg w4 (some ⟨g, 0, none⟩) n ys) := HD3.out.below hb4
  have HB4 : Hid (Below w.heap.size w w4) := HB3.out.trans (hb4.mono HB3.out.size)
  clear ho4 hb4 HD3 HP3 HB3
  simp only [Option.isSome_some]
  go_wp2_with fail
  refine (implUnp_any 1 8 1 _ T cpp _ w4 HP4.out HCp.out hTb (some ys) n (unpad_head ys M) (by simpa using HYL.out)).mono ?_
  rintro e w5 ⟨ay, cy, rfl, ho5, hb5⟩
  have HY5 : Hid (Seg w5 ay n ys) := ho5.seg
  have HX5 : Hid (Seg w5 ax n ys) := HX4.out.below hb5
  have HP5 : Hid (Seg w5 (some ⟨gp, 0, none⟩) T (padB ys M)) := HP4.out.below hb5
  have HD5 : Hid (Seg w5 (some ⟨g, 0, none⟩) n ys) := HD4.out.below hb5
  have HB5 : Hid (Below w.heap.size w w5) := HB4.out.trans (hb5.mono HB4.out.size)
  clear ho5 hb5 HD4 HP4 HB4 HX4
  simp only [Option.isSome_some]
  go_wp2_with fail
  refine (implUnp_any 0 0 1 _ T cpp _ w5 HP5.out HCp.out hTb (some (padB ys M)) T (unpad_plain _) (by simpa using HP5.out.1)).mono ?_
  rintro e w6 ⟨az, cz, rfl, ho6, hb6⟩
  have HZ6 : Hid (Seg w6 az T (padB ys M)) := ho6.seg
  have HY6 : Hid (Seg w6 ay n ys) := HY5.out.below hb6
  have HX6 : Hid (Seg w6 ax n ys) := HX5.out.below hb6
  have HP6 : Hid (Seg w6 (some ⟨gp, 0, none⟩) T (padB ys M)) := HP5.out.below hb6
  have HD6 : Hid (Seg w6 (some ⟨g, 0, none⟩) n ys) := HD5.out.below hb6
  have HB6 : Hid (Below w.heap.size w w6) := HB5.out.trans (hb6.mono HB5.out.size)
  clear ho6 hb6 HD5 HP5 HB5 HX5 HY5
  simp only [Option.isSome_some]
  have HN7 : Hid (Seg (w6.alloc (.cells #[.int .u8 128, .int .u8 0, .int .u8 0, .int .u8 5] 5)) (some ⟨w6.heap.size, 0, none⟩) 4 [128, 0, 0, 5]) := by
    refine ⟨rfl, by simp, .inr ⟨w6.heap.size, 0, rfl, by simp, fun i hi => ?_⟩⟩
    match i, hi with
    | 0, _ => simp [go_sem]
    | 1, _ => simp [go_sem]
    | 2, _ => simp [go_sem]
    | 3, _ => simp [go_sem]
  have hb7 : Below w6.heap.size w6 (w6.alloc (.cells #[.int .u8 128, .int .u8 0, .int .u8 0, .int .u8 5] 5)) := (Below.refl _ _).alloc (Nat.le_refl _) _
  have HZ7 : Hid (Seg (w6.alloc (.cells #[.int .u8 128, .int .u8 0, .int .u8 0, .int .u8 5] 5)) az T (padB ys M)) := HZ6.out.below hb7
  have HY7 : Hid (Seg (w6.alloc (.cells #[.int .u8 128, .int .u8 0, .int .u8 0, .int .u8 5] 5)) ay n ys) := HY6.out.below hb7
  have HX7 : Hid (Seg (w6.alloc (.cells #[.int .u8 128, .int .u8 0, .int .u8 0, .int .u8 5] 5)) ax n ys) := HX6.out.below hb7
  have HP7 : Hid (Seg (w6.alloc (.cells #[.int .u8 128, .int .u8 0, .int .u8 0, .int .u8 5] 5)) (some ⟨gp, 0, none⟩) T (padB ys M)) := HP6.out.below hb7
  have HD7 : Hid (Seg (w6.alloc (.cells #[.int .u8 128, .int .u8 0, .int .u8 0, .int .u8 5] 5)) (some ⟨g, 0, none⟩) n ys) := HD6.out.below hb7
  have HB7 : Hid (Below w.heap.size w (w6.alloc (.cells #[.int .u8 128, .int .u8 0, .int .u8 0, .int .u8 5] 5))) := HB6.out.trans (hb7.mono HB6.out.size)
  clear hb7 HZ6 HY6 HX6 HP6 HD6 HB6
  go_wp2_with fail
  refine (implWin_any _ 4 4 _ _ HN7.out (Nat.le_refl _) (by omega)).mono ?_
  rintro e w8 ⟨rfl, hw8⟩
  rw [win_five]
  dsimp only
  rw [← hw8] at HZ7 HY7 HX7 HP7 HD7 HB7
  clear hw8 HN7
  go_wp2_with fail
  refine (sameB_same _ _ _ _ _ _ _ HX7.out HD7.out (by omega)).mono ?_
  rintro e w9 ⟨rfl, st9⟩
  have hb9 : Below w8.heap.size w8 w9 := Still.below st9 (Below.refl _ _)
  clear st9
  have HZ9 : Hid (Seg w9 az T (padB ys M)) := HZ7.out.below hb9
  have HY9 : Hid (Seg w9 ay n ys) := HY7.out.below hb9
  have HP9 : Hid (Seg w9 (some ⟨gp, 0, none⟩) T (padB ys M)) := HP7.out.below hb9
  have HD9 : Hid (Seg w9 (some ⟨g, 0, none⟩) n ys) := HD7.out.below hb9
  have HB9 : Hid (Below w.heap.size w w9) := HB7.out.trans (hb9.mono HB7.out.size)
  clear hb9 HZ7 HY7 HP7 HD7 HB7 HX7
  go_wp2_with fail
  refine (sameB_same _ _ _ _ _ _ _ HY9.out HD9.out (by omega)).mono ?_
  rintro e w10 ⟨rfl, st10⟩
  have hb10 : Below w9.heap.size w9 w10 := Still.below st10 (Below.refl _ _)
  clear st10
  have HZ10 : Hid (Seg w10 az T (padB ys M)) := HZ9.out.below hb10
  have HP10 : Hid (Seg w10 (some ⟨gp, 0, none⟩) T (padB ys M)) := HP9.out.below hb10
  have HB10 : Hid (Below w.heap.size w w10) := HB9.out.trans (hb10.mono HB9.out.size)
  clear hb10 HZ9 HP9 HD9 HB9 HY9
  go_wp2_with fail
  refine (sameB_same _ _ _ _ _ _ _ HZ10.out HP10.out (by omega)).mono ?_
  rintro e w11 ⟨rfl, st11⟩
  have hb11 : Below w10.heap.size w10 w11 := Still.below st11 (Below.refl _ _)
  clear st11
  have HB11 : Hid (Below w.heap.size w w11) := HB10.out.trans (hb11.mono HB10.out.size)
  clear hb11
  have hge := hTn2.out
  go_wp2_with fail
  go_ret
  exact ⟨rfl, HB11.out⟩

end Go.Proofs.Ytghakpcagacdaad
