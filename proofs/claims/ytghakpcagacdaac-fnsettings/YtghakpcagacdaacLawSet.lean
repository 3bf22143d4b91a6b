/- The law that drawn settings within their bounds come back of their bytes, and two numbers too. -/
import Derived.Test.YtghakpcagacdaacSetBack
import Derived.Test.YtghakpcagacdaacDrawSet
import Derived.Test.YtghakpcagacdaacLawBig
import Derived.Deep.QuietTactic
namespace Go.Proofs.Ytghakpcagacdaac
open Go.RowKit
set_option linter.unusedVariables false

set_option maxRecDepth 10000 in
set_option maxHeartbeats 3200000 in
theorem lawSet_any (a : Option Addr) (len cap : Nat) (zs : List Int) (w : World) (hm : len ≤ maxLen) (hs : Seg w a len zs) :
    Calls Try.prog 7 #[.slice a len cap] w fun e w' => e = .returned (.bool true) ∧ Below w.heap.size w w' := by
  have HS : Hid (Seg w a len zs) := hs
  clear hs
  by_cases hbig : (1048576 : Int) < (len : Int)
  · have hd : Hid (decide ((1048576 : Int) < (len : Int)) = true) := by show _ = _; simpa using hbig
    go_enter Try.func7, Try.ntmps7
    go_wp2_with fail
    refine (big_any a len cap w hm).mono ?_
    rintro e w1 ⟨rfl, hw1⟩
    subst w1
    rw [hd.out]
    go_wp2_with fail
    go_ret
    exact ⟨rfl, Below.refl _ _⟩
  have hd : Hid (decide ((1048576 : Int) < (len : Int)) = false) := by show _ = _; simpa using hbig
  have hl : len ≤ 1099511627776 := by omega
  clear hbig
  go_enter Try.func7, Try.ntmps7
  go_wp2_with fail
  refine (big_any a len cap w hm).mono ?_
  rintro e w1 ⟨rfl, hw1⟩
  subst w1
  rw [hd.out]
  go_wp2_with fail
  refine (drawSett_any a len cap zs w HS.out hl).mono ?_
  rintro e w2 ⟨g, n, cp, l, rfl, hn4, ho2, hb2⟩
  have HL2 : Hid (Setts w2 (some ⟨g, 0, none⟩) n l) := ho2.setts
  have HLL : Hid (l.length = n) := ho2.len
  have HB2 : Hid (Below w.heap.size w w2) := hb2
  clear ho2 hb2
  go_wp2_with fail
  refine (implPutS_any _ n cp l w2 HL2.out (by omega)).mono ?_
  rintro e w3 ⟨ap, cap3, rfl, ho3, hb3⟩
  have HP3 : Hid (Seg w3 ap (6 * n) (putS l)) := ho3.seg
  have HC3 : Hid (6 * n ≤ cap3) := by
    show _ ≤ _
    rcases ho3.1.2 with ⟨he, h0⟩ | ⟨g', cap', cur, he, _, _, hc, _⟩
    · omega
    · injection he with _ _ h3
      omega
  have HL3 : Hid (Setts w3 (some ⟨g, 0, none⟩) n l) := HL2.out.below hb3
  have HB3 : Hid (Below w.heap.size w w3) := HB2.out.trans (hb3.mono HB2.out.size)
  clear ho3 hb3 HL2 HB2
  go_wp2_with fail
  refine (implGetSt_any _ _ cap3 _ w3 HP3.out HC3.out (by omega)).mono ?_
  rintro e w4 ⟨ax, cx, rfl, ho4, hb4⟩
  have HGS : Hid (getS (putS l) = (getSl (putS l) n, true)) := by show _ = _; rw [getS_put, HLL.out]
  rw [HGS.out] at ho4 ⊢
  dsimp only at ho4 ⊢
  rw [getSl_len] at ho4 ⊢
  have HX4 : Hid (Setts w4 ax n (getSl (putS l) n)) := ho4.setts
  have HL4 : Hid (Setts w4 (some ⟨g, 0, none⟩) n l) := HL3.out.below hb4
  have HB4 : Hid (Below w.heap.size w w4) := HB3.out.trans (hb4.mono HB3.out.size)
  clear ho4 hb4 HL3 HB3 HP3 HC3 HGS
  have hnn : ((n : Int) != (n : Int)) = false := by simp
  go_wp2_with fail
  go_loopw [6] (fun i wr => ∃ k : Nat, k ≤ n ∧ i = .int .i64 k ∧ Hid (Below w4.heap.size w4 wr)) (fun i _ => n - (intOf i).toNat)
  case atStart => exact ⟨0, Nat.zero_le _, rfl, Below.refl _ _⟩
  case round =>
    obtain ⟨k, hk, rfl, HW⟩ := hrel
    by_cases hlt : k < n
    · obtain ⟨bl, ol, x, y, hab, hbl, hfl, hl0, hl1, _, _⟩ := (HL4.out.below HW.out).at hlt
      injection hab with hab
      injection hab with h1 h2
      subst h1 h2
      rw [Nat.zero_add] at hl0 hl1
      obtain ⟨bx, ox, x', y', rfl, hbx, hfx, hx0, hx1, _, _⟩ := (HX4.out.below HW.out).at hlt
      have hxy : x' = (x.toNat : Int) % 65536 ∧ y' = (y.toNat : Int) % 4294967296 := by
        rw [getSl_at _ n k hlt, setAt_put l k x y hfl] at hfx
        injection hfx with hfx
        injection hfx with h1 h2
        exact ⟨h1.symm, h2.symm⟩
      clear hfl hfx
      have hki : (k : Int) < (n : Int) := by omega
      have hk0 : (0 : Int) ≤ (k : Int) := by omega
      by_cases c1 : 0 ≤ x
      · by_cases c2 : x ≤ 65535
        · by_cases c3 : 0 ≤ y
          · by_cases c4 : y ≤ 4294967295
            · obtain ⟨e1, e2⟩ := hxy
              obtain rfl : x' = x := by omega
              obtain rfl : y' = y := by omega
              clear e1 e2
              go_wp2_with fail
              go_quiet (fail)
              go_wp2_with fail
              go_roundw
              case rel => exact ⟨k + 1, by omega, by go_num, below_drewN HW.out _⟩
              case measure => simp [intOf]; omega
            · clear hxy
              have d4 : decide (y ≤ 4294967295) = false := by simp; omega
              have p4 : (y ≤ 4294967295) = False := by simp; omega
              have g4 : (4294967295 : Int) < y := by omega
              go_wp2_with fail
              go_quiet (fail)
              go_wp2_with fail
              go_roundw
              case rel => exact ⟨k + 1, by omega, by go_num, below_drewN HW.out _⟩
              case measure => simp [intOf]; omega
          · clear hxy
            have d4 : decide (0 ≤ y) = false := by simp; omega
            have p4 : (0 ≤ y) = False := by simp; omega
            have g4 : y < 0 := by omega
            go_wp2_with fail
            go_quiet (fail)
            go_wp2_with fail
            go_roundw
            case rel => exact ⟨k + 1, by omega, by go_num, below_drewN HW.out _⟩
            case measure => simp [intOf]; omega
        · clear hxy
          have d4 : decide (x ≤ 65535) = false := by simp; omega
          have p4 : (x ≤ 65535) = False := by simp; omega
          have g4 : (65535 : Int) < x := by omega
          go_wp2_with fail
          go_quiet (fail)
          go_wp2_with fail
          go_roundw
          case rel => exact ⟨k + 1, by omega, by go_num, below_drewN HW.out _⟩
          case measure => simp [intOf]; omega
      · clear hxy
        have d4 : decide (0 ≤ x) = false := by simp; omega
        have p4 : (0 ≤ x) = False := by simp; omega
        have g4 : x < 0 := by omega
        go_wp2_with fail
        go_quiet (fail)
        go_wp2_with fail
        go_roundw
        case rel => exact ⟨k + 1, by omega, by go_num, below_drewN HW.out _⟩
        case measure => simp [intOf]; omega
    · have hkn : k = n := by omega
      subst hkn
      go_wp2_with fail
      refine (drawAway_any a len cap zs wr (HS.out.below (HB4.out.trans (HW.out.mono HB4.out.size))) hl).mono ?_
      rintro e w5 ⟨x, y, rfl, hxb, hyb, hb5⟩
      have HB5 : Hid (Below w.heap.size w w5) := (HB4.out.trans (HW.out.mono HB4.out.size)).trans (hb5.mono (HB4.out.trans (HW.out.mono HB4.out.size)).size)
      have HXb : Hid (x ≤ 9223372036854775807) := hxb
      have HYb : Hid (y ≤ 9223372036854775807) := hyb
      clear hxb hyb hb5
      go_wp2_with fail
      refine (implAwayP_any x y w5 HXb.out HYb.out).mono ?_
      rintro e w6 ⟨g6, c6, rfl, ho6, hb6⟩
      have HB6 : Hid (Below w.heap.size w w6) := HB5.out.trans (hb6.mono HB5.out.size)
      have HO6 : Hid (Seg w6 (some ⟨g6, 0, none⟩) 8 (awayB x y)) := ho6.seg
      have HC6 : Hid (8 ≤ c6) := by
        show _ ≤ _
        rcases ho6.1.2 with ⟨he, h0⟩ | ⟨g', cap', cur, he, _, _, hc, _⟩
        · omega
        · injection he with _ _ h3
          omega
      clear ho6 hb6
      go_wp2_with fail
      refine (implAway_any _ 8 c6 _ w6 HO6.out HC6.out (by omega)).mono ?_
      rintro e w7 ⟨rfl, hw7⟩
      subst w7
      rw [awayR_put]
      dsimp only
      obtain ⟨p, hp⟩ : ∃ p, bits .and .i64 ((x.toNat : Int) % 4294967296) 2147483647 = p := ⟨_, rfl⟩
      obtain ⟨q, hq⟩ : ∃ q, (y.toNat : Int) % 4294967296 = q := ⟨_, rfl⟩
      rw [hp, hq]
      have HP : Hid (0 ≤ x → x ≤ 2147483647 → p = x) := fun h0 h1 => by rw [← hp]; exact away_first x h0 h1
      have HQ : Hid (0 ≤ y → y ≤ 4294967295 → q = y) := fun h0 h1 => by rw [← hq]; omega
      clear hp hq
      have hx3 : x < 0 ∨ (¬ x < 0 ∧ 2147483647 < x) ∨ (¬ x < 0 ∧ ¬ 2147483647 < x ∧ p = x) := by
        have := HP.out
        omega
      have hy3 : y < 0 ∨ (¬ y < 0 ∧ 4294967295 < y) ∨ (¬ y < 0 ∧ ¬ 4294967295 < y ∧ q = y) := by
        have := HQ.out
        omega
      rcases hx3 with hx3 | ⟨hx3, hx4⟩ | ⟨hx3, hx4, rfl⟩ <;> rcases hy3 with hy3 | ⟨hy3, hy4⟩ | ⟨hy3, hy4, rfl⟩
      all_goals
        go_wp2_with fail
        go_ret
        exact ⟨rfl, HB6.out⟩

end Go.Proofs.Ytghakpcagacdaac
