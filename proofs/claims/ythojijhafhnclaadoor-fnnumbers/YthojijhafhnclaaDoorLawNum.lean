/- The law of numbers: what was put of a drawn number comes back, and a number comes back of its text. Under the library's tables and two errors as its text lays them. -/
import Derived.Test.YthojijhafhnclaaDoorDrawNum
import Derived.Test.YthojijhafhnclaaDoorPutImpl
import Derived.Test.YthojijhafhnclaaDoorBigB
import Derived.Test.YthojijhafhnclaaDoorTextI
import Derived.Test.YthojijhafhnclaaDoorNumberI
namespace Go.Proofs.YthojijhafhnclaaDoor
open Go.RowKit
set_option linter.unusedVariables false

set_option maxHeartbeats 400000 in
theorem big_any (a : Option Addr) (len cap : Nat) (w : World) (hl : len ≤ maxLen) :
    Calls Tryd.prog 4 #[.slice a len cap] w fun e w' => e = .returned (.bool (decide ((1048576 : Int) < (len : Int)))) ∧ w' = w := by
  go_enter Tryd.func4, Tryd.ntmps4
  go_wp2
  go_ret
  exact ⟨rfl, rfl⟩

theorem gb1 (M : Nat) : gb (pbl M 1 1) = (M : Int) % 256 := by
  simp [gb, pbl, byteOf, List.range, List.range.loop]
theorem gb2 (M : Nat) : gb (pbl M 2 2) = (M : Int) % 65536 := by
  simp [gb, pbl, byteOf, List.range, List.range.loop]; omega
theorem gb3 (M : Nat) : gb (pbl M 3 3) = (M : Int) % 16777216 := by
  simp [gb, pbl, byteOf, List.range, List.range.loop]; omega
theorem gb4 (M : Nat) : gb (pbl M 4 4) = (M : Int) % 4294967296 := by
  simp [gb, pbl, byteOf, List.range, List.range.loop]; omega

theorem mask_of (M e : Nat) (hM : M ≤ 9223372036854775807) (he : e ≤ 62) : bits .and .i64 (M : Int) ((2 ^ e - 1 : Nat) : Int) = ((M % 2 ^ e : Nat) : Int) := by
  have h2 : 2 ^ e ≤ 2 ^ 62 := Nat.pow_le_pow_right (by decide) he
  rw [i64_and_nat M _ (by omega) (by omega), Nat.and_two_pow_sub_one_eq_mod]
theorem mask1 (M : Nat) (hM : M ≤ 9223372036854775807) : bits .and .i64 (M : Int) 255 = (M : Int) % 256 := by have := mask_of M 8 hM (by omega); simpa using this
theorem mask2 (M : Nat) (hM : M ≤ 9223372036854775807) : bits .and .i64 (M : Int) 65535 = (M : Int) % 65536 := by have := mask_of M 16 hM (by omega); simpa using this
theorem mask3 (M : Nat) (hM : M ≤ 9223372036854775807) : bits .and .i64 (M : Int) 16777215 = (M : Int) % 16777216 := by have := mask_of M 24 hM (by omega); simpa using this
theorem mask4 (M : Nat) (hM : M ≤ 9223372036854775807) : bits .and .i64 (M : Int) 4294967295 = (M : Int) % 4294967296 := by have := mask_of M 32 hM (by omega); simpa using this

/-- What comes back of what was put behind a list. -/
theorem gbr_pb (ys : List Int) (x : Int) (K : Nat) (h1 : 1 ≤ K) (h7 : K ≤ 7) : gbr (pb ys x (K : Int)) (ys.length : Int) (K : Int) = (gb (pbl x.toNat K K), true) := by
  have e : pb ys x (K : Int) = ys ++ pbl x.toNat K K := by rw [pb, if_pos (by omega), Int.toNat_natCast]
  have el : (ys ++ pbl x.toNat K K).length = ys.length + K := by rw [List.length_append, pbl_len]
  rw [gbr, e, if_pos (by rw [el]; omega), Int.toNat_natCast, Int.toNat_natCast, List.drop_left, List.take_of_length_le (by rw [pbl_len]; exact Nat.le_refl _)]

theorem numR_txt (m : Int) (h : 0 ≤ m ∧ m ≤ 1000000000) : numR (txt m) = (m, true) := by
  have e : txt m = Lib.decDigits m.toNat := by rw [txt, if_pos h]
  have hg : Good (txt m) := (good_iff _).2 ⟨m.toNat, by omega, e⟩
  rw [numR, if_pos hg, e, (val_of_digits m.toNat).2.1]
  have : ((m.toNat : Nat) : Int) = m := by omega
  rw [this]
theorem numR_nil : numR [] = (0, false) := by
  rw [numR, if_neg (fun hg => by have := hg.1; simp at this)]

theorem txt_size (m : Int) : (⟨(txt m).toArray⟩ : ByteArray).size ≤ 281474976710656 := by
  show (txt m).toArray.size ≤ _
  have : (txt m).length ≤ 10 := by
    unfold txt
    split
    · exact decDigits_le 9 _ (by omega)
    · simp
  simp
  omega

theorem numBack (m : Int) (w : World) (hh : StdT w) : Calls Tryd.prog 10 #[.string ⟨(txt m).toArray⟩] w fun e w' => e = .returned (.tuple #[.int .i64 (numR (txt m)).1, .bool (numR (txt m)).2]) ∧ Below w.heap.size w w' := by
  have h := implNumber_any ⟨(txt m).toArray⟩ w (txt_size m) hh
  rw [← numR_upR] at h
  simpa using h

theorem textBack_yes (m : Int) (h : 0 ≤ m ∧ m ≤ 1000000000) : ∃ T, (∀ w, StdT w → Calls Tryd.prog 9 #[.int .i64 m] w fun e w' => e = .returned (.string T) ∧ Below w.heap.size w w') ∧
    (∀ w, StdT w → Calls Tryd.prog 10 #[.string T] w fun e w' => e = .returned (.tuple #[.int .i64 m, .bool true]) ∧ Below w.heap.size w w') := by
  refine ⟨⟨(txt m).toArray⟩, fun w hh => implText_any m w hh.1, fun w hh => ?_⟩
  have := numBack m w hh
  rw [numR_txt m h] at this
  exact this

theorem textBack_no (m : Int) (h : ¬ (0 ≤ m ∧ m ≤ 1000000000)) : (∀ w, StdT w → Calls Tryd.prog 9 #[.int .i64 m] w fun e w' => e = .returned (.string ⟨#[]⟩) ∧ Below w.heap.size w w') ∧
    (∀ w, StdT w → Calls Tryd.prog 10 #[.string ⟨#[]⟩] w fun e w' => e = .returned (.tuple #[.int .i64 0, .bool false]) ∧ Below w.heap.size w w') := by
  have e : txt m = [] := by rw [txt, if_neg h]
  refine ⟨fun w hh => ?_, fun w hh => ?_⟩
  · have := implText_any m w hh.1
    rw [e] at this
    exact this
  · have := numBack m w hh
    rw [e, numR_nil] at this
    exact this

theorem own_cap {w : World} {base n cap : Nat} {a : Option Addr} {xs : List Value} (h : w.ownsRow base 5 1 (.slice a n cap) n xs) : n ≤ cap := by
  rcases h.2 with ⟨e, rfl⟩ | ⟨g, cap', cur, e, _, _, hn, _⟩
  · exact Nat.zero_le _
  · simp only [Value.slice.injEq] at e
    obtain ⟨_, _, rfl⟩ := e
    exact hn

set_option maxRecDepth 10000 in
set_option maxHeartbeats 1600000 in
theorem law_any (a : Option Addr) (len cap : Nat) (zs : List Int) (w : World) (hm : len ≤ maxLen) (hs : Seg w a len zs) (hh : StdT w) :
    Calls Tryd.prog 3 #[.slice a len cap] w fun e w' => e = .returned (.bool true) ∧ Below w.heap.size w w' := by
  have HS : Hid _ := hs
  have HH : Hid _ := hh
  clear hs hh
  by_cases hbig : 1048576 < len
  · have hd : decide ((1048576 : Int) < (len : Int)) = true := by simp; omega
    go_enter Tryd.func3, Tryd.ntmps3
    go_wp2_with fail
    refine (big_any a len cap _ hm).mono ?_
    rintro e w1 ⟨rfl, rfl⟩
    rw [hd]
    go_wp2_with fail
    go_ret
    exact ⟨rfl, Below.refl _ _⟩
  · have hd : decide ((1048576 : Int) < (len : Int)) = false := by simp; omega
    have hl : len ≤ 1099511627776 := by omega
    go_enter Tryd.func3, Tryd.ntmps3
    go_wp2_with fail
    refine (big_any a len cap _ hm).mono ?_
    rintro e w1 ⟨rfl, rfl⟩
    rw [hd]
    clear hd hbig hm
    go_wp2_with fail
    refine (drawPutBig_any a len cap zs _ HS.out hl).mono ?_
    rintro e w2 ⟨g, n, cp, ys, x, k, rfl, hn9, hx, hk, ho2, hb2⟩
    have HX : Hid _ := hx
    have HK : Hid _ := hk
    have HB2 : Hid (Below w1.heap.size w1 w2) := hb2
    have HO2 : Hid (Owns w2 w1.heap.size (some ⟨g, 0, none⟩) n cp ys) := ho2
    have hg2 : g < w2.heap.size := (ho2.lt g rfl).2
    have HY : Hid (ys.length = n) := ho2.seg.1
    have hxm : Hid (x ≤ 9223372036854775807) := by
      show _ ≤ _
      simp only [List.mem_cons, List.not_mem_nil, or_false] at hx
      omega
    clear hx hk hb2 ho2
    go_wp2_with fail
    refine (implPut_any (some ⟨g, 0, none⟩) n cp x k ys _ HO2.out.seg (by omega) hxm.out).mono ?_
    rintro e w3 ⟨pa, pc, rfl, ho3, hb3⟩
    have HO3 : Hid (Owns w3 w2.heap.size pa (pb ys x k).length pc (pb ys x k)) := ho3
    have HB3 : Hid (Below w1.heap.size w1 w3) := HB2.out.trans (hb3.mono HB2.out.size)
    have HPL : Hid ((pb ys x k).length ≤ ys.length + 8) := pb_len ys x k
    generalize hpl : (pb ys x k).length = pl at *
    have HPL2 : Hid ((pb ys x k).length = pl) := hpl
    clear ho3 hb3 hpl
    go_wp2_with fail
    refine (implGet_any pa pl pc n k (pb ys x k) _ HO3.out.seg (own_cap HO3.out.1) (by have h1 := HPL.out; have h2 := HY.out; omega) (by omega) (by have := HK.out; simp only [List.mem_cons, List.not_mem_nil, or_false] at this; omega)).mono ?_
    rintro e w4 ⟨rfl, rfl⟩
    have HM : Hid _ := HO3
    have HH4 : Hid (StdT w4) := StdT.below HH.out HB3.out
    have HS4 : Hid (Seg w4 a len zs) := Seg.below HS.out HB3.out
    have HR : Hid (∀ K : Nat, 1 ≤ K → K ≤ 7 → k = (K : Int) → gbr (pb ys x k) n k = (gb (pbl x.toNat K K), true) ∧ pl = n + K) := by
      rintro K h1 h7 rfl
      have e1 := gbr_pb ys x K h1 h7
      rw [HY.out] at e1
      refine ⟨e1, ?_⟩
      have e2 := HPL2.out
      rw [pb, if_pos (by omega), List.length_append, Int.toNat_natCast, pbl_len, HY.out] at e2
      omega
    generalize gbr (pb ys x k) n k = R at *
    clear HM HO3 HPL HPL2 HY HO2 hg2
    have hk := HK.out
    simp only [List.mem_cons, List.not_mem_nil, or_false] at hk
    clear HK
    have hx : Hid (x = -1 ∨ ∃ M : Nat, x = (M : Int) ∧ M ≤ 9223372036854775807) := by
      have := HX.out
      simp only [List.mem_cons, List.not_mem_nil, or_false] at this
      by_cases h0 : 0 ≤ x
      · obtain ⟨M, rfl⟩ := Int.eq_ofNat_of_zero_le h0
        exact .inr ⟨M, rfl, by have := hxm.out; omega⟩
      · exact .inl (by omega)
    clear HX
    rcases hk with rfl | rfl | rfl | rfl | rfl | rfl | rfl | rfl
    · obtain ⟨hR, hpl⟩ := HR.out 1 (by omega) (by omega) rfl
      subst hpl
      subst hR
      clear HR
      rcases hx.out with rfl | ⟨M, rfl, hM⟩
      · have e : gb (pbl (-1 : Int).toNat 1 1) = 0 := by rw [show (-1 : Int).toNat = 0 from rfl, gb1]; rfl
        rw [e]
        clear hx hxm e
        go_wp2_with fail
        refine (drawText_any a len cap zs _ HS4.out hl).mono ?_
        rintro e w5 ⟨m, rfl, hm1, hm2, hb5⟩
        have HB5 : Hid (Below w1.heap.size w1 w5) := HB3.out.trans (hb5.mono HB3.out.size)
        have HH5 : Hid (StdT w5) := HH4.out.below hb5
        clear hb5
        by_cases hr : 0 ≤ m ∧ m ≤ 1000000000
        · obtain ⟨T, hT1, hT2⟩ := textBack_yes m hr
          obtain ⟨hr0, hr1⟩ := hr
          have HT1 : Hid _ := hT1
          have HT2 : Hid _ := hT2
          clear hT1 hT2
          go_wp2_with fail
          refine (HT1.out _ HH5.out).mono ?_
          rintro e w6 ⟨rfl, hb6⟩
          have HB6 : Hid (Below w1.heap.size w1 w6) := HB5.out.trans (hb6.mono HB5.out.size)
          have HH6 : Hid (StdT w6) := HH5.out.below hb6
          clear hb6
          go_wp2_with fail
          refine (HT2.out _ HH6.out).mono ?_
          rintro e w7 ⟨rfl, hb7⟩
          have HB7 : Hid (Below w1.heap.size w1 w7) := HB6.out.trans (hb7.mono HB6.out.size)
          clear hb7
          go_wp2_with fail
          go_ret
          exact ⟨ret_bool (by simp), HB7.out⟩
        · obtain ⟨hT1, hT2⟩ := textBack_no m hr
          have HT1 : Hid _ := hT1
          have HT2 : Hid _ := hT2
          clear hT1 hT2
          go_wp2_with fail
          refine (HT1.out _ HH5.out).mono ?_
          rintro e w6 ⟨rfl, hb6⟩
          have HB6 : Hid (Below w1.heap.size w1 w6) := HB5.out.trans (hb6.mono HB5.out.size)
          have HH6 : Hid (StdT w6) := HH5.out.below hb6
          clear hb6
          go_wp2_with fail
          refine (HT2.out _ HH6.out).mono ?_
          rintro e w7 ⟨rfl, hb7⟩
          have HB7 : Hid (Below w1.heap.size w1 w7) := HB6.out.trans (hb7.mono HB6.out.size)
          clear hb7
          have hout : m < 0 ∨ 1000000000 < m := by omega
          clear hr
          rcases hout with hout | hout
          · go_wp2_with fail
            go_ret
            exact ⟨ret_bool (by simp), HB7.out⟩
          · have hout2 : ¬ m < 0 := by omega
            go_wp2_with fail
            go_ret
            exact ⟨ret_bool (by simp), HB7.out⟩
      · have hmask := mask1 M hM
        have e : gb (pbl (M : Int).toNat 1 1) = bits .and .i64 (M : Int) 255 := by rw [hmask, Int.toNat_natCast, gb1]
        rw [e]
        clear hmask e
        have hM0 : (0 : Int) ≤ (M : Int) := by omega
        clear hx hxm
        go_wp2_with fail
        refine (drawText_any a len cap zs _ HS4.out hl).mono ?_
        rintro e w5 ⟨m, rfl, hm1, hm2, hb5⟩
        have HB5 : Hid (Below w1.heap.size w1 w5) := HB3.out.trans (hb5.mono HB3.out.size)
        have HH5 : Hid (StdT w5) := HH4.out.below hb5
        clear hb5
        by_cases hr : 0 ≤ m ∧ m ≤ 1000000000
        · obtain ⟨T, hT1, hT2⟩ := textBack_yes m hr
          obtain ⟨hr0, hr1⟩ := hr
          have HT1 : Hid _ := hT1
          have HT2 : Hid _ := hT2
          clear hT1 hT2
          go_wp2_with fail
          refine (HT1.out _ HH5.out).mono ?_
          rintro e w6 ⟨rfl, hb6⟩
          have HB6 : Hid (Below w1.heap.size w1 w6) := HB5.out.trans (hb6.mono HB5.out.size)
          have HH6 : Hid (StdT w6) := HH5.out.below hb6
          clear hb6
          go_wp2_with fail
          refine (HT2.out _ HH6.out).mono ?_
          rintro e w7 ⟨rfl, hb7⟩
          have HB7 : Hid (Below w1.heap.size w1 w7) := HB6.out.trans (hb7.mono HB6.out.size)
          clear hb7
          go_wp2_with fail
          go_ret
          exact ⟨ret_bool (by simp), HB7.out⟩
        · obtain ⟨hT1, hT2⟩ := textBack_no m hr
          have HT1 : Hid _ := hT1
          have HT2 : Hid _ := hT2
          clear hT1 hT2
          go_wp2_with fail
          refine (HT1.out _ HH5.out).mono ?_
          rintro e w6 ⟨rfl, hb6⟩
          have HB6 : Hid (Below w1.heap.size w1 w6) := HB5.out.trans (hb6.mono HB5.out.size)
          have HH6 : Hid (StdT w6) := HH5.out.below hb6
          clear hb6
          go_wp2_with fail
          refine (HT2.out _ HH6.out).mono ?_
          rintro e w7 ⟨rfl, hb7⟩
          have HB7 : Hid (Below w1.heap.size w1 w7) := HB6.out.trans (hb7.mono HB6.out.size)
          clear hb7
          have hout : m < 0 ∨ 1000000000 < m := by omega
          clear hr
          rcases hout with hout | hout
          · go_wp2_with fail
            go_ret
            exact ⟨ret_bool (by simp), HB7.out⟩
          · have hout2 : ¬ m < 0 := by omega
            go_wp2_with fail
            go_ret
            exact ⟨ret_bool (by simp), HB7.out⟩
    · obtain ⟨hR, hpl⟩ := HR.out 2 (by omega) (by omega) rfl
      subst hpl
      subst hR
      clear HR
      rcases hx.out with rfl | ⟨M, rfl, hM⟩
      · have e : gb (pbl (-1 : Int).toNat 2 2) = 0 := by rw [show (-1 : Int).toNat = 0 from rfl, gb2]; rfl
        rw [e]
        clear hx hxm e
        go_wp2_with fail
        refine (drawText_any a len cap zs _ HS4.out hl).mono ?_
        rintro e w5 ⟨m, rfl, hm1, hm2, hb5⟩
        have HB5 : Hid (Below w1.heap.size w1 w5) := HB3.out.trans (hb5.mono HB3.out.size)
        have HH5 : Hid (StdT w5) := HH4.out.below hb5
        clear hb5
        by_cases hr : 0 ≤ m ∧ m ≤ 1000000000
        · obtain ⟨T, hT1, hT2⟩ := textBack_yes m hr
          obtain ⟨hr0, hr1⟩ := hr
          have HT1 : Hid _ := hT1
          have HT2 : Hid _ := hT2
          clear hT1 hT2
          go_wp2_with fail
          refine (HT1.out _ HH5.out).mono ?_
          rintro e w6 ⟨rfl, hb6⟩
          have HB6 : Hid (Below w1.heap.size w1 w6) := HB5.out.trans (hb6.mono HB5.out.size)
          have HH6 : Hid (StdT w6) := HH5.out.below hb6
          clear hb6
          go_wp2_with fail
          refine (HT2.out _ HH6.out).mono ?_
          rintro e w7 ⟨rfl, hb7⟩
          have HB7 : Hid (Below w1.heap.size w1 w7) := HB6.out.trans (hb7.mono HB6.out.size)
          clear hb7
          go_wp2_with fail
          go_ret
          exact ⟨ret_bool (by simp), HB7.out⟩
        · obtain ⟨hT1, hT2⟩ := textBack_no m hr
          have HT1 : Hid _ := hT1
          have HT2 : Hid _ := hT2
          clear hT1 hT2
          go_wp2_with fail
          refine (HT1.out _ HH5.out).mono ?_
          rintro e w6 ⟨rfl, hb6⟩
          have HB6 : Hid (Below w1.heap.size w1 w6) := HB5.out.trans (hb6.mono HB5.out.size)
          have HH6 : Hid (StdT w6) := HH5.out.below hb6
          clear hb6
          go_wp2_with fail
          refine (HT2.out _ HH6.out).mono ?_
          rintro e w7 ⟨rfl, hb7⟩
          have HB7 : Hid (Below w1.heap.size w1 w7) := HB6.out.trans (hb7.mono HB6.out.size)
          clear hb7
          have hout : m < 0 ∨ 1000000000 < m := by omega
          clear hr
          rcases hout with hout | hout
          · go_wp2_with fail
            go_ret
            exact ⟨ret_bool (by simp), HB7.out⟩
          · have hout2 : ¬ m < 0 := by omega
            go_wp2_with fail
            go_ret
            exact ⟨ret_bool (by simp), HB7.out⟩
      · have hmask := mask2 M hM
        have e : gb (pbl (M : Int).toNat 2 2) = bits .and .i64 (M : Int) 65535 := by rw [hmask, Int.toNat_natCast, gb2]
        rw [e]
        clear hmask e
        have hM0 : (0 : Int) ≤ (M : Int) := by omega
        clear hx hxm
        go_wp2_with fail
        refine (drawText_any a len cap zs _ HS4.out hl).mono ?_
        rintro e w5 ⟨m, rfl, hm1, hm2, hb5⟩
        have HB5 : Hid (Below w1.heap.size w1 w5) := HB3.out.trans (hb5.mono HB3.out.size)
        have HH5 : Hid (StdT w5) := HH4.out.below hb5
        clear hb5
        by_cases hr : 0 ≤ m ∧ m ≤ 1000000000
        · obtain ⟨T, hT1, hT2⟩ := textBack_yes m hr
          obtain ⟨hr0, hr1⟩ := hr
          have HT1 : Hid _ := hT1
          have HT2 : Hid _ := hT2
          clear hT1 hT2
          go_wp2_with fail
          refine (HT1.out _ HH5.out).mono ?_
          rintro e w6 ⟨rfl, hb6⟩
          have HB6 : Hid (Below w1.heap.size w1 w6) := HB5.out.trans (hb6.mono HB5.out.size)
          have HH6 : Hid (StdT w6) := HH5.out.below hb6
          clear hb6
          go_wp2_with fail
          refine (HT2.out _ HH6.out).mono ?_
          rintro e w7 ⟨rfl, hb7⟩
          have HB7 : Hid (Below w1.heap.size w1 w7) := HB6.out.trans (hb7.mono HB6.out.size)
          clear hb7
          go_wp2_with fail
          go_ret
          exact ⟨ret_bool (by simp), HB7.out⟩
        · obtain ⟨hT1, hT2⟩ := textBack_no m hr
          have HT1 : Hid _ := hT1
          have HT2 : Hid _ := hT2
          clear hT1 hT2
          go_wp2_with fail
          refine (HT1.out _ HH5.out).mono ?_
          rintro e w6 ⟨rfl, hb6⟩
          have HB6 : Hid (Below w1.heap.size w1 w6) := HB5.out.trans (hb6.mono HB5.out.size)
          have HH6 : Hid (StdT w6) := HH5.out.below hb6
          clear hb6
          go_wp2_with fail
          refine (HT2.out _ HH6.out).mono ?_
          rintro e w7 ⟨rfl, hb7⟩
          have HB7 : Hid (Below w1.heap.size w1 w7) := HB6.out.trans (hb7.mono HB6.out.size)
          clear hb7
          have hout : m < 0 ∨ 1000000000 < m := by omega
          clear hr
          rcases hout with hout | hout
          · go_wp2_with fail
            go_ret
            exact ⟨ret_bool (by simp), HB7.out⟩
          · have hout2 : ¬ m < 0 := by omega
            go_wp2_with fail
            go_ret
            exact ⟨ret_bool (by simp), HB7.out⟩
    · obtain ⟨hR, hpl⟩ := HR.out 3 (by omega) (by omega) rfl
      subst hpl
      subst hR
      clear HR
      rcases hx.out with rfl | ⟨M, rfl, hM⟩
      · have e : gb (pbl (-1 : Int).toNat 3 3) = 0 := by rw [show (-1 : Int).toNat = 0 from rfl, gb3]; rfl
        rw [e]
        clear hx hxm e
        go_wp2_with fail
        refine (drawText_any a len cap zs _ HS4.out hl).mono ?_
        rintro e w5 ⟨m, rfl, hm1, hm2, hb5⟩
        have HB5 : Hid (Below w1.heap.size w1 w5) := HB3.out.trans (hb5.mono HB3.out.size)
        have HH5 : Hid (StdT w5) := HH4.out.below hb5
        clear hb5
        by_cases hr : 0 ≤ m ∧ m ≤ 1000000000
        · obtain ⟨T, hT1, hT2⟩ := textBack_yes m hr
          obtain ⟨hr0, hr1⟩ := hr
          have HT1 : Hid _ := hT1
          have HT2 : Hid _ := hT2
          clear hT1 hT2
          go_wp2_with fail
          refine (HT1.out _ HH5.out).mono ?_
          rintro e w6 ⟨rfl, hb6⟩
          have HB6 : Hid (Below w1.heap.size w1 w6) := HB5.out.trans (hb6.mono HB5.out.size)
          have HH6 : Hid (StdT w6) := HH5.out.below hb6
          clear hb6
          go_wp2_with fail
          refine (HT2.out _ HH6.out).mono ?_
          rintro e w7 ⟨rfl, hb7⟩
          have HB7 : Hid (Below w1.heap.size w1 w7) := HB6.out.trans (hb7.mono HB6.out.size)
          clear hb7
          go_wp2_with fail
          go_ret
          exact ⟨ret_bool (by simp), HB7.out⟩
        · obtain ⟨hT1, hT2⟩ := textBack_no m hr
          have HT1 : Hid _ := hT1
          have HT2 : Hid _ := hT2
          clear hT1 hT2
          go_wp2_with fail
          refine (HT1.out _ HH5.out).mono ?_
          rintro e w6 ⟨rfl, hb6⟩
          have HB6 : Hid (Below w1.heap.size w1 w6) := HB5.out.trans (hb6.mono HB5.out.size)
          have HH6 : Hid (StdT w6) := HH5.out.below hb6
          clear hb6
          go_wp2_with fail
          refine (HT2.out _ HH6.out).mono ?_
          rintro e w7 ⟨rfl, hb7⟩
          have HB7 : Hid (Below w1.heap.size w1 w7) := HB6.out.trans (hb7.mono HB6.out.size)
          clear hb7
          have hout : m < 0 ∨ 1000000000 < m := by omega
          clear hr
          rcases hout with hout | hout
          · go_wp2_with fail
            go_ret
            exact ⟨ret_bool (by simp), HB7.out⟩
          · have hout2 : ¬ m < 0 := by omega
            go_wp2_with fail
            go_ret
            exact ⟨ret_bool (by simp), HB7.out⟩
      · have hmask := mask3 M hM
        have e : gb (pbl (M : Int).toNat 3 3) = bits .and .i64 (M : Int) 16777215 := by rw [hmask, Int.toNat_natCast, gb3]
        rw [e]
        clear hmask e
        have hM0 : (0 : Int) ≤ (M : Int) := by omega
        clear hx hxm
        go_wp2_with fail
        refine (drawText_any a len cap zs _ HS4.out hl).mono ?_
        rintro e w5 ⟨m, rfl, hm1, hm2, hb5⟩
        have HB5 : Hid (Below w1.heap.size w1 w5) := HB3.out.trans (hb5.mono HB3.out.size)
        have HH5 : Hid (StdT w5) := HH4.out.below hb5
        clear hb5
        by_cases hr : 0 ≤ m ∧ m ≤ 1000000000
        · obtain ⟨T, hT1, hT2⟩ := textBack_yes m hr
          obtain ⟨hr0, hr1⟩ := hr
          have HT1 : Hid _ := hT1
          have HT2 : Hid _ := hT2
          clear hT1 hT2
          go_wp2_with fail
          refine (HT1.out _ HH5.out).mono ?_
          rintro e w6 ⟨rfl, hb6⟩
          have HB6 : Hid (Below w1.heap.size w1 w6) := HB5.out.trans (hb6.mono HB5.out.size)
          have HH6 : Hid (StdT w6) := HH5.out.below hb6
          clear hb6
          go_wp2_with fail
          refine (HT2.out _ HH6.out).mono ?_
          rintro e w7 ⟨rfl, hb7⟩
          have HB7 : Hid (Below w1.heap.size w1 w7) := HB6.out.trans (hb7.mono HB6.out.size)
          clear hb7
          go_wp2_with fail
          go_ret
          exact ⟨ret_bool (by simp), HB7.out⟩
        · obtain ⟨hT1, hT2⟩ := textBack_no m hr
          have HT1 : Hid _ := hT1
          have HT2 : Hid _ := hT2
          clear hT1 hT2
          go_wp2_with fail
          refine (HT1.out _ HH5.out).mono ?_
          rintro e w6 ⟨rfl, hb6⟩
          have HB6 : Hid (Below w1.heap.size w1 w6) := HB5.out.trans (hb6.mono HB5.out.size)
          have HH6 : Hid (StdT w6) := HH5.out.below hb6
          clear hb6
          go_wp2_with fail
          refine (HT2.out _ HH6.out).mono ?_
          rintro e w7 ⟨rfl, hb7⟩
          have HB7 : Hid (Below w1.heap.size w1 w7) := HB6.out.trans (hb7.mono HB6.out.size)
          clear hb7
          have hout : m < 0 ∨ 1000000000 < m := by omega
          clear hr
          rcases hout with hout | hout
          · go_wp2_with fail
            go_ret
            exact ⟨ret_bool (by simp), HB7.out⟩
          · have hout2 : ¬ m < 0 := by omega
            go_wp2_with fail
            go_ret
            exact ⟨ret_bool (by simp), HB7.out⟩
    · obtain ⟨hR, hpl⟩ := HR.out 4 (by omega) (by omega) rfl
      subst hpl
      subst hR
      clear HR
      rcases hx.out with rfl | ⟨M, rfl, hM⟩
      · have e : gb (pbl (-1 : Int).toNat 4 4) = 0 := by rw [show (-1 : Int).toNat = 0 from rfl, gb4]; rfl
        rw [e]
        clear hx hxm e
        go_wp2_with fail
        refine (drawText_any a len cap zs _ HS4.out hl).mono ?_
        rintro e w5 ⟨m, rfl, hm1, hm2, hb5⟩
        have HB5 : Hid (Below w1.heap.size w1 w5) := HB3.out.trans (hb5.mono HB3.out.size)
        have HH5 : Hid (StdT w5) := HH4.out.below hb5
        clear hb5
        by_cases hr : 0 ≤ m ∧ m ≤ 1000000000
        · obtain ⟨T, hT1, hT2⟩ := textBack_yes m hr
          obtain ⟨hr0, hr1⟩ := hr
          have HT1 : Hid _ := hT1
          have HT2 : Hid _ := hT2
          clear hT1 hT2
          go_wp2_with fail
          refine (HT1.out _ HH5.out).mono ?_
          rintro e w6 ⟨rfl, hb6⟩
          have HB6 : Hid (Below w1.heap.size w1 w6) := HB5.out.trans (hb6.mono HB5.out.size)
          have HH6 : Hid (StdT w6) := HH5.out.below hb6
          clear hb6
          go_wp2_with fail
          refine (HT2.out _ HH6.out).mono ?_
          rintro e w7 ⟨rfl, hb7⟩
          have HB7 : Hid (Below w1.heap.size w1 w7) := HB6.out.trans (hb7.mono HB6.out.size)
          clear hb7
          go_wp2_with fail
          go_ret
          exact ⟨ret_bool (by simp), HB7.out⟩
        · obtain ⟨hT1, hT2⟩ := textBack_no m hr
          have HT1 : Hid _ := hT1
          have HT2 : Hid _ := hT2
          clear hT1 hT2
          go_wp2_with fail
          refine (HT1.out _ HH5.out).mono ?_
          rintro e w6 ⟨rfl, hb6⟩
          have HB6 : Hid (Below w1.heap.size w1 w6) := HB5.out.trans (hb6.mono HB5.out.size)
          have HH6 : Hid (StdT w6) := HH5.out.below hb6
          clear hb6
          go_wp2_with fail
          refine (HT2.out _ HH6.out).mono ?_
          rintro e w7 ⟨rfl, hb7⟩
          have HB7 : Hid (Below w1.heap.size w1 w7) := HB6.out.trans (hb7.mono HB6.out.size)
          clear hb7
          have hout : m < 0 ∨ 1000000000 < m := by omega
          clear hr
          rcases hout with hout | hout
          · go_wp2_with fail
            go_ret
            exact ⟨ret_bool (by simp), HB7.out⟩
          · have hout2 : ¬ m < 0 := by omega
            go_wp2_with fail
            go_ret
            exact ⟨ret_bool (by simp), HB7.out⟩
      · have hmask := mask4 M hM
        have e : gb (pbl (M : Int).toNat 4 4) = bits .and .i64 (M : Int) 4294967295 := by rw [hmask, Int.toNat_natCast, gb4]
        rw [e]
        clear hmask e
        have hM0 : (0 : Int) ≤ (M : Int) := by omega
        clear hx hxm
        go_wp2_with fail
        refine (drawText_any a len cap zs _ HS4.out hl).mono ?_
        rintro e w5 ⟨m, rfl, hm1, hm2, hb5⟩
        have HB5 : Hid (Below w1.heap.size w1 w5) := HB3.out.trans (hb5.mono HB3.out.size)
        have HH5 : Hid (StdT w5) := HH4.out.below hb5
        clear hb5
        by_cases hr : 0 ≤ m ∧ m ≤ 1000000000
        · obtain ⟨T, hT1, hT2⟩ := textBack_yes m hr
          obtain ⟨hr0, hr1⟩ := hr
          have HT1 : Hid _ := hT1
          have HT2 : Hid _ := hT2
          clear hT1 hT2
          go_wp2_with fail
          refine (HT1.out _ HH5.out).mono ?_
          rintro e w6 ⟨rfl, hb6⟩
          have HB6 : Hid (Below w1.heap.size w1 w6) := HB5.out.trans (hb6.mono HB5.out.size)
          have HH6 : Hid (StdT w6) := HH5.out.below hb6
          clear hb6
          go_wp2_with fail
          refine (HT2.out _ HH6.out).mono ?_
          rintro e w7 ⟨rfl, hb7⟩
          have HB7 : Hid (Below w1.heap.size w1 w7) := HB6.out.trans (hb7.mono HB6.out.size)
          clear hb7
          go_wp2_with fail
          go_ret
          exact ⟨ret_bool (by simp), HB7.out⟩
        · obtain ⟨hT1, hT2⟩ := textBack_no m hr
          have HT1 : Hid _ := hT1
          have HT2 : Hid _ := hT2
          clear hT1 hT2
          go_wp2_with fail
          refine (HT1.out _ HH5.out).mono ?_
          rintro e w6 ⟨rfl, hb6⟩
          have HB6 : Hid (Below w1.heap.size w1 w6) := HB5.out.trans (hb6.mono HB5.out.size)
          have HH6 : Hid (StdT w6) := HH5.out.below hb6
          clear hb6
          go_wp2_with fail
          refine (HT2.out _ HH6.out).mono ?_
          rintro e w7 ⟨rfl, hb7⟩
          have HB7 : Hid (Below w1.heap.size w1 w7) := HB6.out.trans (hb7.mono HB6.out.size)
          clear hb7
          have hout : m < 0 ∨ 1000000000 < m := by omega
          clear hr
          rcases hout with hout | hout
          · go_wp2_with fail
            go_ret
            exact ⟨ret_bool (by simp), HB7.out⟩
          · have hout2 : ¬ m < 0 := by omega
            go_wp2_with fail
            go_ret
            exact ⟨ret_bool (by simp), HB7.out⟩
    · clear HR hx hxm
      go_wp2_with fail
      refine (drawText_any a len cap zs _ HS4.out hl).mono ?_
      rintro e w5 ⟨m, rfl, hm1, hm2, hb5⟩
      have HB5 : Hid (Below w1.heap.size w1 w5) := HB3.out.trans (hb5.mono HB3.out.size)
      have HH5 : Hid (StdT w5) := HH4.out.below hb5
      clear hb5
      by_cases hr : 0 ≤ m ∧ m ≤ 1000000000
      · obtain ⟨T, hT1, hT2⟩ := textBack_yes m hr
        obtain ⟨hr0, hr1⟩ := hr
        have HT1 : Hid _ := hT1
        have HT2 : Hid _ := hT2
        clear hT1 hT2
        go_wp2_with fail
        refine (HT1.out _ HH5.out).mono ?_
        rintro e w6 ⟨rfl, hb6⟩
        have HB6 : Hid (Below w1.heap.size w1 w6) := HB5.out.trans (hb6.mono HB5.out.size)
        have HH6 : Hid (StdT w6) := HH5.out.below hb6
        clear hb6
        go_wp2_with fail
        refine (HT2.out _ HH6.out).mono ?_
        rintro e w7 ⟨rfl, hb7⟩
        have HB7 : Hid (Below w1.heap.size w1 w7) := HB6.out.trans (hb7.mono HB6.out.size)
        clear hb7
        go_wp2_with fail
        go_ret
        exact ⟨ret_bool (by simp), HB7.out⟩
      · obtain ⟨hT1, hT2⟩ := textBack_no m hr
        have HT1 : Hid _ := hT1
        have HT2 : Hid _ := hT2
        clear hT1 hT2
        go_wp2_with fail
        refine (HT1.out _ HH5.out).mono ?_
        rintro e w6 ⟨rfl, hb6⟩
        have HB6 : Hid (Below w1.heap.size w1 w6) := HB5.out.trans (hb6.mono HB5.out.size)
        have HH6 : Hid (StdT w6) := HH5.out.below hb6
        clear hb6
        go_wp2_with fail
        refine (HT2.out _ HH6.out).mono ?_
        rintro e w7 ⟨rfl, hb7⟩
        have HB7 : Hid (Below w1.heap.size w1 w7) := HB6.out.trans (hb7.mono HB6.out.size)
        clear hb7
        have hout : m < 0 ∨ 1000000000 < m := by omega
        clear hr
        rcases hout with hout | hout
        · go_wp2_with fail
          go_ret
          exact ⟨ret_bool (by simp), HB7.out⟩
        · have hout2 : ¬ m < 0 := by omega
          go_wp2_with fail
          go_ret
          exact ⟨ret_bool (by simp), HB7.out⟩
    · clear HR hx hxm
      go_wp2_with fail
      refine (drawText_any a len cap zs _ HS4.out hl).mono ?_
      rintro e w5 ⟨m, rfl, hm1, hm2, hb5⟩
      have HB5 : Hid (Below w1.heap.size w1 w5) := HB3.out.trans (hb5.mono HB3.out.size)
      have HH5 : Hid (StdT w5) := HH4.out.below hb5
      clear hb5
      by_cases hr : 0 ≤ m ∧ m ≤ 1000000000
      · obtain ⟨T, hT1, hT2⟩ := textBack_yes m hr
        obtain ⟨hr0, hr1⟩ := hr
        have HT1 : Hid _ := hT1
        have HT2 : Hid _ := hT2
        clear hT1 hT2
        go_wp2_with fail
        refine (HT1.out _ HH5.out).mono ?_
        rintro e w6 ⟨rfl, hb6⟩
        have HB6 : Hid (Below w1.heap.size w1 w6) := HB5.out.trans (hb6.mono HB5.out.size)
        have HH6 : Hid (StdT w6) := HH5.out.below hb6
        clear hb6
        go_wp2_with fail
        refine (HT2.out _ HH6.out).mono ?_
        rintro e w7 ⟨rfl, hb7⟩
        have HB7 : Hid (Below w1.heap.size w1 w7) := HB6.out.trans (hb7.mono HB6.out.size)
        clear hb7
        go_wp2_with fail
        go_ret
        exact ⟨ret_bool (by simp), HB7.out⟩
      · obtain ⟨hT1, hT2⟩ := textBack_no m hr
        have HT1 : Hid _ := hT1
        have HT2 : Hid _ := hT2
        clear hT1 hT2
        go_wp2_with fail
        refine (HT1.out _ HH5.out).mono ?_
        rintro e w6 ⟨rfl, hb6⟩
        have HB6 : Hid (Below w1.heap.size w1 w6) := HB5.out.trans (hb6.mono HB5.out.size)
        have HH6 : Hid (StdT w6) := HH5.out.below hb6
        clear hb6
        go_wp2_with fail
        refine (HT2.out _ HH6.out).mono ?_
        rintro e w7 ⟨rfl, hb7⟩
        have HB7 : Hid (Below w1.heap.size w1 w7) := HB6.out.trans (hb7.mono HB6.out.size)
        clear hb7
        have hout : m < 0 ∨ 1000000000 < m := by omega
        clear hr
        rcases hout with hout | hout
        · go_wp2_with fail
          go_ret
          exact ⟨ret_bool (by simp), HB7.out⟩
        · have hout2 : ¬ m < 0 := by omega
          go_wp2_with fail
          go_ret
          exact ⟨ret_bool (by simp), HB7.out⟩
    · clear HR hx hxm
      go_wp2_with fail
      refine (drawText_any a len cap zs _ HS4.out hl).mono ?_
      rintro e w5 ⟨m, rfl, hm1, hm2, hb5⟩
      have HB5 : Hid (Below w1.heap.size w1 w5) := HB3.out.trans (hb5.mono HB3.out.size)
      have HH5 : Hid (StdT w5) := HH4.out.below hb5
      clear hb5
      by_cases hr : 0 ≤ m ∧ m ≤ 1000000000
      · obtain ⟨T, hT1, hT2⟩ := textBack_yes m hr
        obtain ⟨hr0, hr1⟩ := hr
        have HT1 : Hid _ := hT1
        have HT2 : Hid _ := hT2
        clear hT1 hT2
        go_wp2_with fail
        refine (HT1.out _ HH5.out).mono ?_
        rintro e w6 ⟨rfl, hb6⟩
        have HB6 : Hid (Below w1.heap.size w1 w6) := HB5.out.trans (hb6.mono HB5.out.size)
        have HH6 : Hid (StdT w6) := HH5.out.below hb6
        clear hb6
        go_wp2_with fail
        refine (HT2.out _ HH6.out).mono ?_
        rintro e w7 ⟨rfl, hb7⟩
        have HB7 : Hid (Below w1.heap.size w1 w7) := HB6.out.trans (hb7.mono HB6.out.size)
        clear hb7
        go_wp2_with fail
        go_ret
        exact ⟨ret_bool (by simp), HB7.out⟩
      · obtain ⟨hT1, hT2⟩ := textBack_no m hr
        have HT1 : Hid _ := hT1
        have HT2 : Hid _ := hT2
        clear hT1 hT2
        go_wp2_with fail
        refine (HT1.out _ HH5.out).mono ?_
        rintro e w6 ⟨rfl, hb6⟩
        have HB6 : Hid (Below w1.heap.size w1 w6) := HB5.out.trans (hb6.mono HB5.out.size)
        have HH6 : Hid (StdT w6) := HH5.out.below hb6
        clear hb6
        go_wp2_with fail
        refine (HT2.out _ HH6.out).mono ?_
        rintro e w7 ⟨rfl, hb7⟩
        have HB7 : Hid (Below w1.heap.size w1 w7) := HB6.out.trans (hb7.mono HB6.out.size)
        clear hb7
        have hout : m < 0 ∨ 1000000000 < m := by omega
        clear hr
        rcases hout with hout | hout
        · go_wp2_with fail
          go_ret
          exact ⟨ret_bool (by simp), HB7.out⟩
        · have hout2 : ¬ m < 0 := by omega
          go_wp2_with fail
          go_ret
          exact ⟨ret_bool (by simp), HB7.out⟩
    · clear HR hx hxm
      go_wp2_with fail
      refine (drawText_any a len cap zs _ HS4.out hl).mono ?_
      rintro e w5 ⟨m, rfl, hm1, hm2, hb5⟩
      have HB5 : Hid (Below w1.heap.size w1 w5) := HB3.out.trans (hb5.mono HB3.out.size)
      have HH5 : Hid (StdT w5) := HH4.out.below hb5
      clear hb5
      by_cases hr : 0 ≤ m ∧ m ≤ 1000000000
      · obtain ⟨T, hT1, hT2⟩ := textBack_yes m hr
        obtain ⟨hr0, hr1⟩ := hr
        have HT1 : Hid _ := hT1
        have HT2 : Hid _ := hT2
        clear hT1 hT2
        go_wp2_with fail
        refine (HT1.out _ HH5.out).mono ?_
        rintro e w6 ⟨rfl, hb6⟩
        have HB6 : Hid (Below w1.heap.size w1 w6) := HB5.out.trans (hb6.mono HB5.out.size)
        have HH6 : Hid (StdT w6) := HH5.out.below hb6
        clear hb6
        go_wp2_with fail
        refine (HT2.out _ HH6.out).mono ?_
        rintro e w7 ⟨rfl, hb7⟩
        have HB7 : Hid (Below w1.heap.size w1 w7) := HB6.out.trans (hb7.mono HB6.out.size)
        clear hb7
        go_wp2_with fail
        go_ret
        exact ⟨ret_bool (by simp), HB7.out⟩
      · obtain ⟨hT1, hT2⟩ := textBack_no m hr
        have HT1 : Hid _ := hT1
        have HT2 : Hid _ := hT2
        clear hT1 hT2
        go_wp2_with fail
        refine (HT1.out _ HH5.out).mono ?_
        rintro e w6 ⟨rfl, hb6⟩
        have HB6 : Hid (Below w1.heap.size w1 w6) := HB5.out.trans (hb6.mono HB5.out.size)
        have HH6 : Hid (StdT w6) := HH5.out.below hb6
        clear hb6
        go_wp2_with fail
        refine (HT2.out _ HH6.out).mono ?_
        rintro e w7 ⟨rfl, hb7⟩
        have HB7 : Hid (Below w1.heap.size w1 w7) := HB6.out.trans (hb7.mono HB6.out.size)
        clear hb7
        have hout : m < 0 ∨ 1000000000 < m := by omega
        clear hr
        rcases hout with hout | hout
        · go_wp2_with fail
          go_ret
          exact ⟨ret_bool (by simp), HB7.out⟩
        · have hout2 : ¬ m < 0 := by omega
          go_wp2_with fail
          go_ret
          exact ⟨ret_bool (by simp), HB7.out⟩

end Go.Proofs.YthojijhafhnclaaDoor
