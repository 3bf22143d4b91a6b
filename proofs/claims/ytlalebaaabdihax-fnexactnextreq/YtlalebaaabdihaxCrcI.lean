/- What the program's Crc answers: the sum of the bytes; nothing is written. For lists of at most 2^40 bytes. -/
import Derived.Test.YtlalebaaabdihaxOwn
import Derived.Test.YtlalebaaabdihaxCrcNums
namespace Go.Proofs.Ytlalebaaabdihax
open Go.RowKit

set_option maxHeartbeats 400000 in
theorem crcByte_any (s : Nat) (x : Int) (w : World) (hs : s < 4294967296) (hx0 : 0 ≤ x) (hx1 : x ≤ 255) :
    Calls Try.prog 60 #[.int .u32 s, .int .u8 x] w fun e w' => e = .returned (.int .u32 ((crcN 8 (s ^^^ x.toNat) : Nat) : Int)) ∧ w' = w := by
  have hxor := u32_xor_int s x hs hx0 (by omega)
  have hq := xor_lt32 s x.toNat hs (by omega)
  generalize s ^^^ x.toNat = q at *
  go_enter Try.func60, Try.ntmps60
  go_wp2
  clear hxor
  go_loop [0, 10] (fun m i => ∃ j : Nat, j ≤ 8 ∧ i = .int .i64 j ∧ m = .int .u32 ((crcN j q : Nat) : Int)) (fun _ i => 8 - (intOf i).toNat)
  case atStart => exact ⟨0, Nat.zero_le _, rfl, rfl⟩
  case round =>
    obtain ⟨j, hj, rfl, rfl⟩ := hrel
    have hb := crcN_lt j q hq
    have hsn : Hid (crcN (j + 1) q = crc1 (crcN j q)) := rfl
    generalize hm0 : crcN j q = m at *
    have HM : Hid (crcN j q = m) := hm0
    clear hm0
    by_cases hlt : j < 8
    · have ht := u32_turn m hb
      rcases Nat.mod_two_eq_zero_or_one m with h0 | h0
      · have ha : bits .and .u32 (m : Int) 1 = 0 := by rw [u32_and1 m hb]; omega
        go_wp2
        go_round
        case rel => exact ⟨j + 1, by omega, by go_num, by rw [hsn.out, crc1, if_neg (by omega)]; go_num⟩
        case measure => simp [intOf]; omega
      · have ha : bits .and .u32 (m : Int) 1 = 1 := by rw [u32_and1 m hb]; omega
        go_wp2
        go_round
        case rel => exact ⟨j + 1, by omega, by go_num, by rw [hsn.out, crc1, if_pos (by omega)]⟩
        case measure => simp [intOf]; omega
    · go_wp2
      go_ret
      have : j = 8 := by omega
      subst this
      exact ⟨ret_int (by rw [HM.out]), rfl⟩

set_option maxHeartbeats 400000 in
theorem implCrc_any (a : Option Addr) (len cap : Nat) (zs : List Int) (w : World) (hs : Seg w a len zs) (hl : len ≤ 1099511627776) :
    Calls Try.prog 30 #[.slice a len cap] w fun e w' => e = .returned (.int .i64 ((crcL zs ^^^ 4294967295 : Nat) : Int)) ∧ w' = w := by
  have HS : Hid (Seg w a len zs) := hs
  clear hs
  go_enter Try.func30, Try.ntmps30
  go_wp2
  go_loop [3, 8] (fun m i => ∃ j : Nat, j ≤ len ∧ i = .int .i64 j ∧ m = .int .u32 ((crcL (zs.take j) : Nat) : Int)) (fun _ i => len - (intOf i).toNat)
  case atStart => exact ⟨0, Nat.zero_le _, rfl, rfl⟩
  case round =>
    obtain ⟨j, hj, rfl, rfl⟩ := hrel
    have hb := crcL_lt (zs.take j) (fun n hn => HS.out.2.1 n (List.mem_of_mem_take hn))
    by_cases hlt : j < len
    · have hsn : Hid (crcL (zs.take (j + 1)) = crcN 8 (crcL (zs.take j) ^^^ (zs.getD j 0).toNat)) := by
        show crcL _ = _
        rw [take_snoc zs j (by have := HS.out.1; omega), crcL_snoc]
      obtain ⟨b, off, rfl, hb2, hc⟩ : ∃ b off, a = some ⟨b, off, none⟩ ∧ b < w.heap.size ∧ ∀ i, i < len → w.cell? ⟨b, off + i, none⟩ = some (.int .u8 (zs.getD i 0)) := by
        rcases HS.out.2.2 with h | h
        · omega
        · exact h
      have hcell : w.cell? ⟨b, off + j, none⟩ = some (.int .u8 (zs.getD j 0)) := hc j hlt
      clear hc
      obtain ⟨hx0, hx1⟩ := HS.out.range j
      generalize crcL (zs.take j) = m at *
      generalize zs.getD j 0 = x at *
      go_wp2_with (go_at_call 60; refine (crcByte_any m x _ hb hx0 hx1).mono ?_; rintro e w' ⟨rfl, rfl⟩)
      go_round
      case rel => exact ⟨j + 1, by omega, by go_num, by rw [hsn.out]⟩
      case measure => simp [intOf]; omega
    · have hjl : j = len := by omega
      subst hjl
      have hz : zs.take j = zs := List.take_of_length_le (by have := HS.out.1; omega)
      rw [hz] at hb ⊢
      clear hz
      have hsg : IntKind.u32.signed = false := rfl
      have hr := u32_not (crcL zs) hb
      have hr2 := xor_lt32 (crcL zs) 4294967295 hb (by omega)
      generalize hrr : crcL zs ^^^ 4294967295 = r at hr hr2
      have HRR : Hid (crcL zs ^^^ 4294967295 = r) := hrr
      clear hrr
      go_wp2
      go_ret
      exact ⟨ret_int (by rw [HRR.out]), rfl⟩

end Go.Proofs.Ytlalebaaabdihax
