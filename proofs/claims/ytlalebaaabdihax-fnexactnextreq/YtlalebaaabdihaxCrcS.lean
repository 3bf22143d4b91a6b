/- What the specification's Crc answers: the sum of the bytes; nothing is written. For lists of at most 2^40 bytes. -/
import Derived.Test.YtlalebaaabdihaxOwn
import Derived.Test.YtlalebaaabdihaxCrcNums
namespace Go.Proofs.Ytlalebaaabdihax
open Go.RowKit

set_option maxHeartbeats 400000 in
theorem specCrc_any (a : Option Addr) (len cap : Nat) (zs : List Int) (w : World) (hs : Seg w a len zs) (hl : len ≤ 1099511627776) :
    Calls Try.prog 26 #[.slice a len cap] w fun e w' => e = .returned (.int .i64 ((crcL zs ^^^ 4294967295 : Nat) : Int)) ∧ w' = w := by
  have HS : Hid (Seg w a len zs) := hs
  clear hs
  go_enter Try.func26, Try.ntmps26
  go_wp2
  go_loop [3, 4] (fun m i => ∃ j : Nat, j ≤ len ∧ i = .int .i64 j ∧ m = .int .i64 ((crcL (zs.take j) : Nat) : Int)) (fun _ i => len - (intOf i).toNat)
  case atStart => exact ⟨0, Nat.zero_le _, rfl, rfl⟩
  case round =>
    obtain ⟨j, hj, rfl, rfl⟩ := hrel
    have hb := crcL_lt (zs.take j) (fun n hn => HS.out.2.1 n (List.mem_of_mem_take hn))
    by_cases hlt : j < len
    · have hsn : Hid (crcL (zs.take (j + 1)) = crcN 8 (crcL (zs.take j) ^^^ (zs.getD j 0).toNat)) := by
        show crcL _ = _
        rw [take_snoc zs j (by have := HS.out.1; omega), crcL_snoc]
      obtain ⟨b, off, rfl, hb2, hc⟩ : ∃ b off, a = some ⟨b, off, none⟩ ∧ b < w.heap.size ∧ ∀ i, i < len → w.cell? ⟨b, off + i, none⟩ = some (.int .u8 (zs.getD i 0)) := by
        rcases HS.out.2.2 with h | h
        · omega
        · exact h
      have hcell : w.cell? ⟨b, off + j, none⟩ = some (.int .u8 (zs.getD j 0)) := hc j hlt
      clear hc
      obtain ⟨hx0, hx1⟩ := HS.out.range j
      generalize crcL (zs.take j) = m at *
      generalize zs.getD j 0 = x at *
      have hxor := i64_xor_int m x hb hx0 (by omega)
      have hq := xor_lt32 m x.toNat hb (by omega)
      generalize m ^^^ x.toNat = q at *
      go_wp2
      clear hxor hcell
      go_loop [3, 5] (fun v i => ∃ t : Nat, t ≤ 8 ∧ i = .int .i64 t ∧ v = .int .i64 ((crcN t q : Nat) : Int)) (fun _ i => 8 - (intOf i).toNat)
      case atStart => exact ⟨0, Nat.zero_le _, rfl, rfl⟩
      case round =>
        obtain ⟨t, ht8, rfl, rfl⟩ := hrel
        have hbm := crcN_lt t q hq
        have hst : Hid (crcN (t + 1) q = crc1 (crcN t q)) := rfl
        generalize hm0 : crcN t q = y at *
        have HM : Hid (crcN t q = y) := hm0
        clear hm0
        by_cases hlt8 : t < 8
        · have ht := i64_turn y hbm
          rcases Nat.mod_two_eq_zero_or_one y with h0 | h0
          · have ha : bits .and .i64 (y : Int) 1 = 0 := by rw [i64_and1 y hbm]; omega
            go_wp2
            go_round
            case rel => exact ⟨t + 1, by omega, by go_num, by rw [hst.out, crc1, if_neg (by omega)]; go_num⟩
            case measure => simp [intOf]; omega
          · have ha : bits .and .i64 (y : Int) 1 = 1 := by rw [i64_and1 y hbm]; omega
            go_wp2
            go_round
            case rel => exact ⟨t + 1, by omega, by go_num, by rw [hst.out, crc1, if_pos (by omega)]⟩
            case measure => simp [intOf]; omega
        · have ht9 : t = 8 := by omega
          subst ht9
          go_wp2
          go_round
          case rel => exact ⟨j + 1, by omega, by go_num, by rw [hsn.out, HM.out]⟩
          case measure => simp [intOf]; omega
    · have hjl : j = len := by omega
      subst hjl
      have hz : zs.take j = zs := List.take_of_length_le (by have := HS.out.1; omega)
      rw [hz] at hb ⊢
      clear hz
      have hr := i64_xor_int (crcL zs) 4294967295 hb (by omega) (by omega)
      go_wp2
      go_ret
      exact ⟨rfl, rfl⟩

end Go.Proofs.Ytlalebaaabdihax
