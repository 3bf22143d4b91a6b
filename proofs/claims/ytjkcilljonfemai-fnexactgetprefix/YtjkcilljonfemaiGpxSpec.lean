/- What the specification's GetPrefix answers. For lists of at most 2^40 bytes. -/
import Derived.Test.YtjkcilljonfemaiSmall
import Derived.Test.YtjkcilljonfemaiGpxNums
namespace Go.Proofs.Ytjkcilljonfemai
open Go.RowKit
set_option linter.unusedVariables false

theorem ret_trip {a b c d : Int} {x y : Bool} (h : a = b) (k : c = d) (l : x = y) : Ending.returned (.tuple #[.int .i64 a, .int .i64 c, .bool x]) = .returned (.tuple #[.int .i64 b, .int .i64 d, .bool y]) := by rw [h, k, l]

set_option maxRecDepth 10000 in
set_option maxHeartbeats 1600000 in
theorem specGpx_yes (a : Option Addr) (len cap at_ B : Nat) (zs : List Int) (w : World) (hs : Seg w a len zs) (hl : len ≤ 1099511627776) (h1 : 1 ≤ B) (h8 : B ≤ 8) (hat : at_ < len) :
    Calls Try.prog 17 #[.slice a len cap, .int .i64 at_, .int .i64 B] w fun e w' => e = .returned (.tuple #[.int .i64 (getPfx zs at_ B).1, .int .i64 (getPfx zs at_ B).2.1, .bool (getPfx zs at_ B).2.2]) ∧ w' = w := by
  have hzl : zs.length = len := hs.1
  obtain ⟨b, off, rfl, hb, hc⟩ : ∃ b off, a = some ⟨b, off, none⟩ ∧ b < w.heap.size ∧ ∀ i, i < len → w.cell? ⟨b, off + i, none⟩ = some (.int .u8 (zs.getD i 0)) := by
    rcases hs.2.2 with h | h
    · omega
    · exact h
  have HC : Hid (∀ i, i < len → w.cell? ⟨b, off + i, none⟩ = some (.int .u8 (zs.getD i 0))) := hc
  have HS : Hid (Seg w (some ⟨b, off, none⟩) len zs) := hs
  have hcell : w.cell? ⟨b, off + at_, none⟩ = some (.int .u8 (zs.getD at_ 0)) := hc at_ hat
  obtain ⟨hx0, hx1⟩ := hs.range at_
  clear hc hs
  have HE : Hid (getPfx zs at_ B = if zs.getD at_ 0 % 2 ^ B < 2 ^ B - 1 then (zs.getD at_ 0 % 2 ^ B, (at_ : Int) + 1, true) else gpf 4 (zs.drop (at_ + 1)) 1 (2 ^ B - 1) ((at_ : Int) + 1)) := by
    show _ = _
    rw [getPfx, if_pos (by omega), Int.toNat_natCast, Int.toNat_natCast]
  generalize getPfx zs at_ B = R at *
  generalize zs.getD at_ 0 = x at *
  obtain ⟨X, rfl⟩ := Int.eq_ofNat_of_zero_le hx0
  have HMM : Hid (wrap64 (wrap64 ((2 : Int) ^ B) - 1) = ((2 ^ B - 1 : Nat) : Int)) := mask_form B h1 h8
  have hand := and_mod X B (by omega) h8
  have hps := pow_small B h1 h8
  have HP : Hid (((2 ^ B : Nat) : Int) = (2 : Int) ^ B) := by show _ = _; simp
  have hlast : X % 2 ^ B < 2 ^ B := Nat.mod_lt _ (by omega)
  have HE2 : Hid (R = if X % 2 ^ B < 2 ^ B - 1 then (((X % 2 ^ B : Nat) : Int), (at_ : Int) + 1, true) else gpf 4 (zs.drop (at_ + 1)) 1 ((2 ^ B - 1 : Nat) : Int) ((at_ : Int) + 1)) := by
    show R = _
    rw [HE.out, ← HP.out]
    have e1 : (X : Int) % ((2 ^ B : Nat) : Int) = ((X % 2 ^ B : Nat) : Int) := by omega
    have e2 : ((2 ^ B : Nat) : Int) - 1 = ((2 ^ B - 1 : Nat) : Int) := by omega
    rw [e1, e2]
    by_cases hh : X % 2 ^ B < 2 ^ B - 1
    · rw [if_pos hh, if_pos (by omega)]
    · rw [if_neg hh, if_neg (by omega)]
  clear HE HP
  generalize hy : X % 2 ^ B = y at *
  generalize hm : 2 ^ B - 1 = m at *
  have hmb : 1 ≤ m ∧ m ≤ 255 ∧ y ≤ m := by omega
  clear hps hlast hy hm
  have hk1 : (1 : Int) ≤ (B : Int) := by omega
  have hk8 : (B : Int) ≤ 8 := by omega
  have ha0 : (0 : Int) ≤ (at_ : Int) := by omega
  have ha1 : (at_ : Int) ≤ (len : Int) - 1 := by omega
  by_cases hlt : y < m
  · have hd : decide ((y : Int) < (m : Int)) = true := by simp; omega
    have hdp : ((y : Int) < (m : Int)) = True := by simp; omega
    have HR : Hid (R = ((y : Int), (at_ : Int) + 1, true)) := by show R = _; rw [HE2.out, if_pos hlt]
    clear HE2
    go_enter Try.func17, Try.ntmps17
    go_wp2_with fail
    refine (l1In_yes _ _ _ _ hk1 hk8).mono ?_
    rintro e w2 ⟨rfl, rfl⟩
    go_wp2_with fail
    refine (l1In_yes _ _ _ _ ha0 ha1).mono ?_
    rintro e w3 ⟨rfl, rfl⟩
    have hmask := HMM.out
    go_wp2_with fail
    go_ret3
    exact ⟨ret_trip (by rw [HR.out]) (by rw [HR.out]) (by rw [HR.out]), rfl⟩
  · have hd : decide ((y : Int) < (m : Int)) = false := by simp; omega
    have hdp : ((y : Int) < (m : Int)) = False := by simp; omega
    have hym : Hid (y = m) := by show y = m; omega
    have HR : Hid (R = gpf 4 (zs.drop (at_ + 1)) 1 (m : Int) ((at_ : Int) + 1)) := by show R = _; rw [HE2.out, if_neg hlt]
    clear HE2
    go_enter Try.func17, Try.ntmps17
    go_wp2_with fail
    refine (l1In_yes _ _ _ _ hk1 hk8).mono ?_
    rintro e w2 ⟨rfl, rfl⟩
    go_wp2_with fail
    refine (l1In_yes _ _ _ _ ha0 ha1).mono ?_
    rintro e w3 ⟨rfl, rfl⟩
    have hmask := HMM.out
    go_wp2_with fail
    clear hmask HMM hand
    go_loop [10, 11] (fun nn kk => ∃ k n : Nat, k ≤ 4 ∧ n ≤ 255 + 128 ^ k ∧ nn = .int .i64 n ∧ kk = .int .i64 k ∧ Hid (R = gpf (4 - k) (zs.drop (at_ + 1 + k)) ((128 ^ k : Nat) : Int) (n : Int) ((at_ : Int) + 1 + (k : Int)))) (fun _ kk => 4 - (intOf kk).toNat)
    case atStart => exact ⟨0, y, by omega, by omega, rfl, rfl, by show R = _; rw [HR.out, hym.out]; rfl⟩
    case round =>
      clear HR hym
      obtain ⟨k, n, hk, hn, rfl, rfl, HG⟩ := hrel
      by_cases hin : k < 4 ∧ at_ + 1 + k < len
      · obtain ⟨hk4, hin⟩ := hin
        have hcl : w3.cell? ⟨b, off + (at_ + 1 + k), none⟩ = some (.int .u8 (zs.getD (at_ + 1 + k) 0)) := HC.out _ hin
        obtain ⟨hc0, hc1⟩ := HS.out.range (at_ + 1 + k)
        have hdrop : Hid (zs.drop (at_ + 1 + k) = zs.getD (at_ + 1 + k) 0 :: zs.drop (at_ + 1 + (k + 1))) := by
          show _ = _
          rw [List.drop_eq_getElem_cons (by omega), List.getD_eq_getElem?_getD, List.getElem?_eq_getElem (by omega)]
          rfl
        generalize zs.getD (at_ + 1 + k) 0 = c at *
        obtain ⟨C, rfl⟩ := Int.eq_ofNat_of_zero_le hc0
        have hCb : C ≤ 255 := by omega
        have hcm : bits .and .i64 (C : Int) 127 = ((C % 128 : Nat) : Int) := by rw [i64_and127]; omega
        have hini : (at_ : Int) + 1 + (k : Int) < (len : Int) := by omega
        obtain rfl | rfl | rfl | rfl : k = 0 ∨ k = 1 ∨ k = 2 ∨ k = 3 := by omega
        · have hrd : Hid (R = if C < 128 then (if n + C % 128 * 1 ≤ 16777216 then (((n + C % 128 * 1 : Nat) : Int), ((at_ : Int) + 1 + ((0 : Nat) : Int)) + 1, true) else (0, 0, false)) else gpf 3 (zs.drop (at_ + 1 + (0 + 1))) ((1 * 128 : Nat) : Int) ((n + C % 128 * 1 : Nat) : Int) (((at_ : Int) + 1 + ((0 : Nat) : Int)) + 1)) := by
            show R = _
            rw [HG.out, hdrop.out]
            exact gpf_step 3 C n _ 1 _
          clear HG hdrop
          have hn2 : n + C % 128 * 1 ≤ 536870912 := by omega
          by_cases hC : C < 128
          · have hCi : (C : Int) < 128 := by omega
            by_cases hle : n + C % 128 * 1 ≤ 16777216
            · have HF : Hid (R = (((n + C % 128 * 1 : Nat) : Int), ((at_ : Int) + 1 + ((0 : Nat) : Int)) + 1, true)) := by show R = _; rw [hrd.out, if_pos hC, if_pos hle]
              have hlei : ¬ (16777216 : Int) < ((n + C % 128 * 1 : Nat) : Int) := by omega
              clear hrd
              go_wp2_with fail
              go_ret3
              exact ⟨ret_trip (by rw [HF.out]; show _ = ((n + C % 128 * 1 : Nat) : Int); omega) (by rw [HF.out]; show _ = ((at_ : Int) + 1 + ((0 : Nat) : Int)) + 1; omega) (by rw [HF.out]), rfl⟩
            · exfalso; omega
          · have hCi : ¬ (C : Int) < 128 := by omega
            have HF : Hid (R = gpf (4 - (0 + 1)) (zs.drop (at_ + 1 + (0 + 1))) ((128 ^ (0 + 1) : Nat) : Int) ((n + C % 128 * 1 : Nat) : Int) ((at_ : Int) + 1 + ((0 + 1 : Nat) : Int))) := by show R = _; rw [hrd.out, if_neg hC, show ((at_ : Int) + 1 + ((0 : Nat) : Int)) + 1 = (at_ : Int) + 1 + ((0 + 1 : Nat) : Int) by omega]
            clear hrd
            go_wp2_with fail
            go_round
            case rel => exact ⟨0 + 1, n + C % 128 * 1, by omega, by show n + C % 128 * 1 ≤ 255 + 128 ^ (0 + 1); omega, by go_num, by go_num, HF⟩
            case measure => simp [intOf]
        · have hrd : Hid (R = if C < 128 then (if n + C % 128 * 128 ≤ 16777216 then (((n + C % 128 * 128 : Nat) : Int), ((at_ : Int) + 1 + ((1 : Nat) : Int)) + 1, true) else (0, 0, false)) else gpf 2 (zs.drop (at_ + 1 + (1 + 1))) ((128 * 128 : Nat) : Int) ((n + C % 128 * 128 : Nat) : Int) (((at_ : Int) + 1 + ((1 : Nat) : Int)) + 1)) := by
            show R = _
            rw [HG.out, hdrop.out]
            exact gpf_step 2 C n _ 128 _
          clear HG hdrop
          have hn2 : n + C % 128 * 128 ≤ 536870912 := by omega
          by_cases hC : C < 128
          · have hCi : (C : Int) < 128 := by omega
            by_cases hle : n + C % 128 * 128 ≤ 16777216
            · have HF : Hid (R = (((n + C % 128 * 128 : Nat) : Int), ((at_ : Int) + 1 + ((1 : Nat) : Int)) + 1, true)) := by show R = _; rw [hrd.out, if_pos hC, if_pos hle]
              have hlei : ¬ (16777216 : Int) < ((n + C % 128 * 128 : Nat) : Int) := by omega
              clear hrd
              go_wp2_with fail
              go_ret3
              exact ⟨ret_trip (by rw [HF.out]; show _ = ((n + C % 128 * 128 : Nat) : Int); omega) (by rw [HF.out]; show _ = ((at_ : Int) + 1 + ((1 : Nat) : Int)) + 1; omega) (by rw [HF.out]), rfl⟩
            · exfalso; omega
          · have hCi : ¬ (C : Int) < 128 := by omega
            have HF : Hid (R = gpf (4 - (1 + 1)) (zs.drop (at_ + 1 + (1 + 1))) ((128 ^ (1 + 1) : Nat) : Int) ((n + C % 128 * 128 : Nat) : Int) ((at_ : Int) + 1 + ((1 + 1 : Nat) : Int))) := by show R = _; rw [hrd.out, if_neg hC, show ((at_ : Int) + 1 + ((1 : Nat) : Int)) + 1 = (at_ : Int) + 1 + ((1 + 1 : Nat) : Int) by omega]
            clear hrd
            go_wp2_with fail
            go_round
            case rel => exact ⟨1 + 1, n + C % 128 * 128, by omega, by show n + C % 128 * 128 ≤ 255 + 128 ^ (1 + 1); omega, by go_num, by go_num, HF⟩
            case measure => simp [intOf]
        · have hrd : Hid (R = if C < 128 then (if n + C % 128 * 16384 ≤ 16777216 then (((n + C % 128 * 16384 : Nat) : Int), ((at_ : Int) + 1 + ((2 : Nat) : Int)) + 1, true) else (0, 0, false)) else gpf 1 (zs.drop (at_ + 1 + (2 + 1))) ((16384 * 128 : Nat) : Int) ((n + C % 128 * 16384 : Nat) : Int) (((at_ : Int) + 1 + ((2 : Nat) : Int)) + 1)) := by
            show R = _
            rw [HG.out, hdrop.out]
            exact gpf_step 1 C n _ 16384 _
          clear HG hdrop
          have hn2 : n + C % 128 * 16384 ≤ 536870912 := by omega
          by_cases hC : C < 128
          · have hCi : (C : Int) < 128 := by omega
            by_cases hle : n + C % 128 * 16384 ≤ 16777216
            · have HF : Hid (R = (((n + C % 128 * 16384 : Nat) : Int), ((at_ : Int) + 1 + ((2 : Nat) : Int)) + 1, true)) := by show R = _; rw [hrd.out, if_pos hC, if_pos hle]
              have hlei : ¬ (16777216 : Int) < ((n + C % 128 * 16384 : Nat) : Int) := by omega
              clear hrd
              go_wp2_with fail
              go_ret3
              exact ⟨ret_trip (by rw [HF.out]; show _ = ((n + C % 128 * 16384 : Nat) : Int); omega) (by rw [HF.out]; show _ = ((at_ : Int) + 1 + ((2 : Nat) : Int)) + 1; omega) (by rw [HF.out]), rfl⟩
            · exfalso; omega
          · have hCi : ¬ (C : Int) < 128 := by omega
            have HF : Hid (R = gpf (4 - (2 + 1)) (zs.drop (at_ + 1 + (2 + 1))) ((128 ^ (2 + 1) : Nat) : Int) ((n + C % 128 * 16384 : Nat) : Int) ((at_ : Int) + 1 + ((2 + 1 : Nat) : Int))) := by show R = _; rw [hrd.out, if_neg hC, show ((at_ : Int) + 1 + ((2 : Nat) : Int)) + 1 = (at_ : Int) + 1 + ((2 + 1 : Nat) : Int) by omega]
            clear hrd
            go_wp2_with fail
            go_round
            case rel => exact ⟨2 + 1, n + C % 128 * 16384, by omega, by show n + C % 128 * 16384 ≤ 255 + 128 ^ (2 + 1); omega, by go_num, by go_num, HF⟩
            case measure => simp [intOf]
        · have hrd : Hid (R = if C < 128 then (if n + C % 128 * 2097152 ≤ 16777216 then (((n + C % 128 * 2097152 : Nat) : Int), ((at_ : Int) + 1 + ((3 : Nat) : Int)) + 1, true) else (0, 0, false)) else gpf 0 (zs.drop (at_ + 1 + (3 + 1))) ((2097152 * 128 : Nat) : Int) ((n + C % 128 * 2097152 : Nat) : Int) (((at_ : Int) + 1 + ((3 : Nat) : Int)) + 1)) := by
            show R = _
            rw [HG.out, hdrop.out]
            exact gpf_step 0 C n _ 2097152 _
          clear HG hdrop
          have hn2 : n + C % 128 * 2097152 ≤ 536870912 := by omega
          by_cases hC : C < 128
          · have hCi : (C : Int) < 128 := by omega
            by_cases hle : n + C % 128 * 2097152 ≤ 16777216
            · have HF : Hid (R = (((n + C % 128 * 2097152 : Nat) : Int), ((at_ : Int) + 1 + ((3 : Nat) : Int)) + 1, true)) := by show R = _; rw [hrd.out, if_pos hC, if_pos hle]
              have hlei : ¬ (16777216 : Int) < ((n + C % 128 * 2097152 : Nat) : Int) := by omega
              clear hrd
              go_wp2_with fail
              go_ret3
              exact ⟨ret_trip (by rw [HF.out]; show _ = ((n + C % 128 * 2097152 : Nat) : Int); omega) (by rw [HF.out]; show _ = ((at_ : Int) + 1 + ((3 : Nat) : Int)) + 1; omega) (by rw [HF.out]), rfl⟩
            · have HF : Hid (R = (0, 0, false)) := by show R = _; rw [hrd.out, if_pos hC, if_neg hle]
              have hlei : (16777216 : Int) < ((n + C % 128 * 2097152 : Nat) : Int) := by omega
              clear hrd
              go_wp2_with fail
              go_ret3
              exact ⟨ret_trip (by rw [HF.out]) (by rw [HF.out]) (by rw [HF.out]), rfl⟩
          · have hCi : ¬ (C : Int) < 128 := by omega
            have HF : Hid (R = gpf (4 - (3 + 1)) (zs.drop (at_ + 1 + (3 + 1))) ((128 ^ (3 + 1) : Nat) : Int) ((n + C % 128 * 2097152 : Nat) : Int) ((at_ : Int) + 1 + ((3 + 1 : Nat) : Int))) := by show R = _; rw [hrd.out, if_neg hC, show ((at_ : Int) + 1 + ((3 : Nat) : Int)) + 1 = (at_ : Int) + 1 + ((3 + 1 : Nat) : Int) by omega]
            clear hrd
            go_wp2_with fail
            go_round
            case rel => exact ⟨3 + 1, n + C % 128 * 2097152, by omega, by show n + C % 128 * 2097152 ≤ 255 + 128 ^ (3 + 1); omega, by go_num, by go_num, HF⟩
            case measure => simp [intOf]
      · have HF : Hid (R = (0, 0, false)) := by
          show R = _
          rw [HG.out]
          by_cases h4 : k < 4
          · rw [List.drop_of_length_le (by omega)]
            obtain ⟨f, hf⟩ : ∃ f, 4 - k = f + 1 := ⟨3 - k, by omega⟩
            rw [hf]
            rfl
          · rw [show 4 - k = 0 by omega]
            rfl
        clear HG
        by_cases h4 : k < 4
        · have h4i : (k : Int) < 4 := by omega
          have hini : ¬ (at_ : Int) + 1 + (k : Int) < (len : Int) := by omega
          clear hin
          go_wp2_with fail
          go_ret3
          exact ⟨ret_trip (by rw [HF.out]) (by rw [HF.out]) (by rw [HF.out]), rfl⟩
        · have h4i : ¬ (k : Int) < 4 := by omega
          clear hin
          go_wp2_with fail
          go_ret3
          exact ⟨ret_trip (by rw [HF.out]) (by rw [HF.out]) (by rw [HF.out]), rfl⟩

set_option maxRecDepth 10000 in
set_option maxHeartbeats 400000 in
theorem specGpx_no (a : Option Addr) (len cap : Nat) (at_ bits : Int) (w : World) (hl : len ≤ 1099511627776) (h : ¬ (1 ≤ bits ∧ bits ≤ 8 ∧ 0 ≤ at_ ∧ at_ < (len : Int))) :
    Calls Try.prog 17 #[.slice a len cap, .int .i64 at_, .int .i64 bits] w fun e w' => e = .returned (.tuple #[.int .i64 0, .int .i64 0, .bool false]) ∧ w' = w := by
  have HN : Hid (¬ (1 ≤ bits ∧ bits ≤ 8 ∧ 0 ≤ at_ ∧ at_ < (len : Int))) := h
  clear h
  by_cases hb : 1 ≤ bits ∧ bits ≤ 8
  · have HF : Hid (at_ < 0 ∨ (len : Int) - 1 < at_) := by
      have := HN.out
      show _ ∨ _
      omega
    obtain ⟨hb1, hb2⟩ := hb
    go_enter Try.func17, Try.ntmps17
    go_wp2_with fail
    refine (l1In_yes _ _ _ _ hb1 hb2).mono ?_
    rintro e w2 ⟨rfl, rfl⟩
    go_wp2_with fail
    refine (l1In_no _ _ _ _ HF.out).mono ?_
    rintro e w3 ⟨rfl, rfl⟩
    go_wp2_with fail
    go_ret3
    exact ⟨rfl, rfl⟩
  · have HF : Hid (bits < 1 ∨ 8 < bits) := by show _ ∨ _; omega
    clear hb
    go_enter Try.func17, Try.ntmps17
    go_wp2_with fail
    refine (l1In_no _ _ _ _ HF.out).mono ?_
    rintro e w2 ⟨rfl, rfl⟩
    go_wp2_with fail
    go_ret3
    exact ⟨rfl, rfl⟩

theorem specGpx_any (a : Option Addr) (len cap : Nat) (at_ bits : Int) (zs : List Int) (w : World) (hs : Seg w a len zs) (hl : len ≤ 1099511627776) :
    Calls Try.prog 17 #[.slice a len cap, .int .i64 at_, .int .i64 bits] w fun e w' => e = .returned (.tuple #[.int .i64 (getPfx zs at_ bits).1, .int .i64 (getPfx zs at_ bits).2.1, .bool (getPfx zs at_ bits).2.2]) ∧ w' = w := by
  have hz := hs.1
  by_cases h : 1 ≤ bits ∧ bits ≤ 8 ∧ 0 ≤ at_ ∧ at_ < (zs.length : Int)
  · obtain ⟨B, rfl⟩ := Int.eq_ofNat_of_zero_le (show 0 ≤ bits by omega)
    obtain ⟨T, rfl⟩ := Int.eq_ofNat_of_zero_le (show 0 ≤ at_ by omega)
    exact specGpx_yes a len cap T B zs w hs hl (by omega) (by omega) (by omega)
  · rw [getPfx, if_neg h]
    exact specGpx_no a len cap at_ bits w hl (by omega)

end Go.Proofs.Ytjkcilljonfemai
