/- What both programs' GetBig answer: the number of the bytes there and true, or 0 and false; nothing is written. For lists of at most 2^40 bytes. The record that the program tells of bytes, what is not there as noughts; no program in it. What the program's cutAt answers: a part of bytes. What the program's shortAt answers; a part of bytes as a text. The record that the program tells of bytes. The program's table of kinds of records, as it lies in memory. -/
import Derived.Test.YtlkgopoicpnacaaGreatDoorM13
import Derived.Test.YtlkgopoicpnacaaGreatDoorM01
import Derived.Test.YtlkgopoicpnacaaGreatDoorM01
import Derived.Test.YtlkgopoicpnacaaGreatDoorM03
import Derived.Test.YtlkgopoicpnacaaGreatDoorM07
import Derived.Test.YtlkgopoicpnacaaGreatDoorM04
import Derived.Test.YtlkgopoicpnacaaGreatDoorM32
import Derived.Deep.CutBlock
namespace Go.Proofs.YtlkgopoicpnacaaGreatDoor
open Go.RowKit

set_option maxHeartbeats 400000 in
theorem implGet_yes (a : Option Addr) (len cap at_ k : Nat) (zs : List Int) (w : World) (hs : Seg w a len zs) (hcap : len ≤ cap) (hl : len ≤ 1099511627776) (h1 : 1 ≤ k) (h7 : k ≤ 7) (hat : at_ + k ≤ len) :
    Calls Tryz.prog 107 #[.slice a len cap, .int .i64 at_, .int .i64 k] w fun e w' => e = .returned (.tuple #[.int .i64 (gb ((zs.drop at_).take k)), .bool true]) ∧ w' = w := by
  have hl0 : 0 < len := by omega
  obtain ⟨b, off, rfl, hb, hc⟩ : ∃ b off, a = some ⟨b, off, none⟩ ∧ b < w.heap.size ∧ ∀ i, i < len → w.cell? ⟨b, off + i, none⟩ = some (.int .u8 (zs.getD i 0)) := by
    rcases hs.2.2 with h | h
    · omega
    · exact h
  have HS : Hid (Seg w (some ⟨b, off, none⟩) len zs) := hs
  have hC : Hid (∀ i, i < len → w.cell? ⟨b, off + i, none⟩ = some (.int .u8 (zs.getD i 0))) := hc
  clear hc hs
  go_enter Tryz.func107, Tryz.ntmps107
  go_wp2
  go_loop [8, 34] (fun n i => ∃ j : Nat, j ≤ k ∧ i = .int .i64 j ∧ n = .int .i64 (gb ((zs.drop at_).take j))) (fun _ i => k - (intOf i).toNat)
  case atStart => exact ⟨0, Nat.zero_le _, rfl, rfl⟩
  case round =>
    obtain ⟨j, hj, rfl, rfl⟩ := hrel
    by_cases hlt : j < k
    · have hcell : w.cell? ⟨b, off + at_ + j, none⟩ = some (.int .u8 (zs.getD (at_ + j) 0)) := by rw [Nat.add_assoc]; exact hC.out (at_ + j) (by omega)
      have hx := HS.out.range (at_ + j)
      have hm := gb_part_bound zs at_ j HS.out.2.1 (by omega)
      have hsn : Hid (gb ((zs.drop at_).take (j + 1)) = gb ((zs.drop at_).take j) * 256 + zs.getD (at_ + j) 0) := by
        show gb _ = _
        rw [drop_take_snoc zs at_ j (by have := HS.out.1; omega), gb_snoc]
      have hmm := gb_part_small zs at_ j HS.out.2.1 (by omega)
      generalize gb ((zs.drop at_).take j) = m at *
      generalize zs.getD (at_ + j) 0 = x at *
      obtain ⟨hx0, hx1⟩ := hx
      obtain ⟨hm0, hm1⟩ := hm
      have hor := join8 m x hm0 (by omega) hx0 hx1
      go_wp2
      go_round
      case rel => exact ⟨j + 1, by omega, by go_num, by rw [hsn.out]⟩
      case measure => simp [intOf]; omega
    · go_wp2
      go_ret2
      have : j = k := by omega
      subst this
      exact ⟨rfl, rfl⟩

set_option maxHeartbeats 400000 in
theorem implGet_no (a : Option Addr) (len cap : Nat) (at_ k : Int) (w : World) (hl : len ≤ 1099511627776) (ha : -9223372036854775808 ≤ at_ ∧ at_ ≤ 9223372036854775807) (hk : -9223372036854775808 ≤ k ∧ k ≤ 9223372036854775807)
    (h : ¬ (1 ≤ k ∧ k ≤ 7 ∧ 0 ≤ at_ ∧ at_ + k ≤ (len : Int))) :
    Calls Tryz.prog 107 #[.slice a len cap, .int .i64 at_, .int .i64 k] w fun e w' => e = .returned (.tuple #[.int .i64 0, .bool false]) ∧ w' = w := by
  obtain ⟨ha0, ha1⟩ := ha
  obtain ⟨hk0, hk1⟩ := hk
  have H : Hid (¬ (1 ≤ k ∧ k ≤ 7 ∧ 0 ≤ at_ ∧ at_ + k ≤ (len : Int))) := h
  clear h
  by_cases h1 : 1 ≤ k
  · by_cases h7 : k ≤ 7
    · by_cases h0 : 0 ≤ at_
      · have h2 : (len : Int) < at_ + k := by have := H.out; omega
        go_enter Tryz.func107, Tryz.ntmps107
        go_wp2
        go_ret2
        exact ⟨rfl, rfl⟩
      · go_enter Tryz.func107, Tryz.ntmps107
        go_wp2
        go_ret2
        exact ⟨rfl, rfl⟩
    · go_enter Tryz.func107, Tryz.ntmps107
      go_wp2
      go_ret2
      exact ⟨rfl, rfl⟩
  · go_enter Tryz.func107, Tryz.ntmps107
    go_wp2
    go_ret2
    exact ⟨rfl, rfl⟩

theorem implGet_any (a : Option Addr) (len cap : Nat) (at_ k : Int) (zs : List Int) (w : World) (hs : Seg w a len zs) (hcap : len ≤ cap) (hl : len ≤ 1099511627776) (ha : -9223372036854775808 ≤ at_ ∧ at_ ≤ 9223372036854775807) (hk : -9223372036854775808 ≤ k ∧ k ≤ 9223372036854775807) :
    Calls Tryz.prog 107 #[.slice a len cap, .int .i64 at_, .int .i64 k] w fun e w' => e = .returned (.tuple #[.int .i64 (gbr zs at_ k).1, .bool (gbr zs at_ k).2]) ∧ w' = w := by
  have hz := hs.1
  by_cases h : 1 ≤ k ∧ k ≤ 7 ∧ 0 ≤ at_ ∧ at_ + k ≤ (zs.length : Int)
  · obtain ⟨K, rfl⟩ := Int.eq_ofNat_of_zero_le (show 0 ≤ k by omega)
    obtain ⟨T, rfl⟩ := Int.eq_ofNat_of_zero_le h.2.2.1
    rw [gbr, if_pos h, Int.toNat_natCast, Int.toNat_natCast]
    exact implGet_yes a len cap T K zs w hs hcap hl (by omega) (by omega) (by omega)
  · rw [gbr, if_neg h]
    exact implGet_no a len cap at_ k w hl ha hk (by omega)

end Go.Proofs.YtlkgopoicpnacaaGreatDoor

namespace Go.Proofs.YtlkgopoicpnacaaGreatDoor
open Go.RowKit
set_option linter.unusedVariables false

theorem gbrN (zs : List Int) (at_ k : Nat) (h1 : 1 ≤ k) (h7 : k ≤ 7) : gbr zs (at_ : Int) (k : Int) = if at_ + k ≤ zs.length then (gb ((zs.drop at_).take k), true) else (0, false) := by
  split
  · rename_i h
    rw [gbr, if_pos ⟨by omega, by omega, by omega, by omega⟩, Int.toNat_natCast, Int.toNat_natCast]
  · rename_i h
    rw [gbr, if_neg (by omega)]

theorem gbr_at {zs : List Int} {at_ k : Nat} (h1 : 1 ≤ k) (h7 : k ≤ 7) (h : at_ + k ≤ zs.length) : (gbr zs (at_ : Int) (k : Int)).1 = gb ((zs.drop at_).take k) := by rw [gbrN _ _ _ h1 h7, if_pos h]

/-- How many bytes are told behind a place, and these. -/
def shortN (l : List Int) (T : Nat) : Nat := (gbr l (T : Int) ((1 : Nat) : Int)).1.toNat
def shortL (l : List Int) (T : Nat) : List Int := if T + 1 + shortN l T ≤ l.length then (l.drop (T + 1)).take (shortN l T) else []

theorem gb_one (l : List Int) (hr : ∀ x ∈ l, 0 ≤ x ∧ x ≤ 255) (k : Nat) : 0 ≤ gb ((l.drop k).take 1) ∧ gb ((l.drop k).take 1) ≤ 255 := by
  have h := gb_bound ((l.drop k).take 1) (fun n hn => hr n (List.mem_of_mem_drop (List.mem_of_mem_take hn)))
  have hl : ((l.drop k).take 1).length ≤ 1 := by simp; omega
  have hp : (256 : Nat) ^ ((l.drop k).take 1).length ≤ 256 ^ 1 := Nat.pow_le_pow_right (by omega) hl
  omega

theorem shortN_is (l : List Int) (hr : ∀ x ∈ l, 0 ≤ x ∧ x ≤ 255) (T : Nat) : (gbr l (T : Int) ((1 : Nat) : Int)).1 = (shortN l T : Int) ∧ shortN l T ≤ 255 := by
  have h := gb_one l hr T
  rw [shortN, gbrN l T 1 (by omega) (by omega)]
  split
  · dsimp only
    omega
  · simp

theorem shortL_len (l : List Int) (T : Nat) : (shortL l T).length = if T + 1 + shortN l T ≤ l.length then shortN l T else 0 := by
  rw [shortL]
  split
  · simp
    omega
  · rfl

/-- The record that is told. -/
def looseR (l : List Int) : R :=
  ⟨(gbr l ((0 : Nat) : Int) ((3 : Nat) : Int)).1, (gbr l ((3 : Nat) : Int) ((2 : Nat) : Int)).1, (gbr l ((5 : Nat) : Int) ((1 : Nat) : Int)).1, txU (shortL l 6), (gbr l ((7 + shortN l 6 : Nat) : Int) ((4 : Nat) : Int)).1, shortL l (11 + shortN l 6)⟩

/-- Where all is there it is that one. -/
theorem loose_is {l : List Int} (h : 16 + idN l + dataN l ≤ l.length) : looseR l = parseR l := by
  have e6 : shortN l 6 = idN l := by rw [shortN, gbr_at (by omega) (by omega) (by omega), idN]
  have e7 : shortL l 6 = (l.drop 7).take (idN l) := by rw [shortL, e6, if_pos (by omega)]
  have e11 : shortN l (11 + idN l) = dataN l := by rw [shortN, gbr_at (by omega) (by omega) (by omega), dataN]
  have e12 : shortL l (11 + idN l) = (l.drop (12 + idN l)).take (dataN l) := by
    rw [shortL, e11, if_pos (by omega), show 11 + idN l + 1 = 12 + idN l by omega]
  rw [looseR, e6, e7, e12, parseR, gbr_at (by omega) (by omega) (by omega), gbr_at (by omega) (by omega) (by omega), gbr_at (by omega) (by omega) (by omega), gbr_at (by omega) (by omega) (by omega), List.drop_zero]

theorem loose_some {s : ByteArray} (h1 : (looseR (txI s)).ok = true) (h2 : (looseR (txI s)).put = txI s) : recOf s = some (looseR (txI s)) := recOf_iff.2 ⟨h1, h2⟩

theorem loose_none {s : ByteArray} (h : ¬ ((looseR (txI s)).ok = true ∧ (looseR (txI s)).put = txI s)) : recOf s = none := by
  cases hr : recOf s with
  | none => rfl
  | some r =>
    have hl := recOf_len (s := s) (by rw [hr]; exact Option.some_ne_none r)
    have e := loose_is (l := txI s) (by rw [txI_len]; omega)
    have hp := recOf_iff.1 hr
    have : recOf s = some (parseR (txI s)) := by
      rw [recOf] at hr ⊢
      split
      · rfl
      · rename_i hn
        rw [if_neg hn] at hr
        cases hr
    rw [hr] at this
    injection this with this
    exact absurd (by rw [e, ← this]; exact hp) h

theorem recOf_long {s : ByteArray} (h : 48 < s.size) : recOf s = none := by
  cases hr : recOf s with
  | none => rfl
  | some r =>
    have hl := recOf_len (s := s) (by rw [hr]; exact Option.some_ne_none r)
    omega

end Go.Proofs.YtlkgopoicpnacaaGreatDoor

namespace Go.Proofs.YtlkgopoicpnacaaGreatDoor
open Go.RowKit
set_option linter.unusedVariables false

theorem Seg.part {w : World} {b off len : Nat} {zs : List Int} (h : Seg w (some ⟨b, off, none⟩) len zs) (T n : Nat) (hT : T + n ≤ len) : Seg w (some ⟨b, off + T, none⟩) n ((zs.drop T).take n) := by
  have hl := h.1
  refine ⟨by rw [List.length_take, List.length_drop]; omega, fun x hx => h.2.1 x (List.mem_of_mem_drop (List.mem_of_mem_take hx)), ?_⟩
  rcases h.2.2 with h0 | ⟨b', off', e, hb, hc⟩
  · exact .inl (by omega)
  · simp only [Option.some.injEq, Addr.mk.injEq, and_true] at e
    obtain ⟨rfl, rfl⟩ := e
    refine .inr ⟨b, off + T, rfl, hb, fun i hi => ?_⟩
    rw [Nat.add_assoc, hc (T + i) (by omega)]
    rw [List.getD_eq_getElem?_getD, List.getD_eq_getElem?_getD, List.getElem?_take, if_pos hi, List.getElem?_drop]

theorem row_alloc {W : World} {b : Nat} {x : Obj} (h : W.heap[b]? = some x) (o : Obj) : (W.alloc o).heap[b]? = some x := by
  have hl := (Array.getElem?_eq_some_iff.1 h).1
  show (W.heap.push o)[b]? = _
  rw [Array.getElem?_push, if_neg (by omega)]
  exact h

theorem Seg.zero {w : World} (a : Option Addr) (zs : List Int) (T : Nat) : Seg w a 0 ((zs.drop T).take 0) := ⟨by simp, by simp, .inl rfl⟩

set_option maxHeartbeats 800000 in
theorem cut_no (a : Option Addr) (len cap n : Nat) (at_ : Int) (w : World) (hl : len ≤ 1099511627776) (hn : n ≤ 1099511627776) (ha : -9223372036854775808 ≤ at_ ∧ at_ ≤ 9223372036854775807) (h : ¬ (0 ≤ at_ ∧ at_ + n ≤ (len : Int))) :
    Calls Tryz.prog 121 #[.slice a len cap, .int .i64 at_, .int .i64 n] w fun e w' => e = .returned (.tuple #[.slice none 0 0, .bool false]) ∧ w' = w := by
  obtain ⟨ha0, ha1⟩ := ha
  by_cases h0 : at_ < 0
  · clear h
    go_enter Tryz.func121, Tryz.ntmps121
    go_wp2
    go_ret2
    exact ⟨rfl, rfl⟩
  · have h1 : (len : Int) - n < at_ := by omega
    clear h
    go_enter Tryz.func121, Tryz.ntmps121
    go_wp2
    go_ret2
    exact ⟨rfl, rfl⟩

set_option maxHeartbeats 800000 in
theorem cut_yes (a : Option Addr) (len cap n T : Nat) (zs : List Int) (w : World) (hs : Seg w a len zs) (hc : len ≤ cap) (hl : len ≤ 1099511627776) (h : T + n ≤ len) :
    Calls Tryz.prog 121 #[.slice a len cap, .int .i64 T, .int .i64 n] w fun e w' => ∃ a', e = .returned (.tuple #[.slice a' n n, .bool true]) ∧ Seg w a' n ((zs.drop T).take n) ∧ w' = w := by
  have HS : Hid (Seg w a len zs) := hs
  clear hs
  have h1 : ¬ (len : Int) - n < T := by omega
  by_cases h0 : n = 0
  · subst h0
    cases a with
    | none =>
      have hl0 : len = 0 := by
        rcases HS.out.2.2 with h | ⟨b, off, e, _⟩
        · exact h
        · cases e
      subst hl0
      obtain rfl : T = 0 := by omega
      go_enter Tryz.func121, Tryz.ntmps121
      go_wp2
      go_ret2
      exact ⟨_, rfl, Seg.zero none zs 0, rfl⟩
    | some ad =>
      go_enter Tryz.func121, Tryz.ntmps121
      go_wp2
      go_ret2
      exact ⟨_, rfl, Seg.zero (some ad) zs T, rfl⟩
  · obtain ⟨b, off, rfl⟩ : ∃ b off, a = some ⟨b, off, none⟩ := by
      rcases HS.out.2.2 with h | ⟨b, off, e, _⟩
      · omega
      · exact ⟨b, off, e⟩
    go_enter Tryz.func121, Tryz.ntmps121
    go_wp2
    go_ret2
    exact ⟨_, rfl, HS.out.part T n h, rfl⟩

end Go.Proofs.YtlkgopoicpnacaaGreatDoor

namespace Go.Proofs.YtlkgopoicpnacaaGreatDoor
open Go.RowKit
set_option linter.unusedVariables false

/-- Bytes as a text, wherever they stand. -/
theorem conv_seg {W : World} {a : Option Addr} {M c : Nat} {zs : List Int} (h : Seg W a M zs) : (convert 22 9 (.slice a M c)).run Tryz.prog W = .ok (.string (txU zs)) W := by
  rcases h.2.2 with h0 | ⟨b, off, e, _⟩
  · subst h0
    obtain rfl : zs = [] := List.eq_nil_of_length_eq_zero h.1
    cases a with
    | none => simp [go_sem, convert, txU, Conv.bytesToString, loadCells]; rfl
    | some ad => simp [go_sem, convert, txU, Conv.bytesToString, loadCells]; rfl
  · subst e
    exact conv_txt_at h

set_option maxHeartbeats 800000 in
theorem cut_yesW (a : Option Addr) (len cap n T : Nat) (zs : List Int) (w : World) (hs : Seg w a len zs) (hc : len ≤ cap) (hl : len ≤ 1099511627776) (h : T + n ≤ len) :
    Calls Tryz.prog 121 #[.slice a len cap, .int .i64 T, .int .i64 n] w fun e w' => ∃ a', e = .returned (.tuple #[.slice a' n n, .bool true]) ∧ (∀ W, Seg W a len zs → Seg W a' n ((zs.drop T).take n)) ∧ w' = w := by
  have HS : Hid (Seg w a len zs) := hs
  clear hs
  have h1 : ¬ (len : Int) - n < T := by omega
  by_cases h0 : n = 0
  · subst h0
    cases a with
    | none =>
      have hl0 : len = 0 := by
        rcases HS.out.2.2 with h | ⟨b, off, e, _⟩
        · exact h
        · cases e
      subst hl0
      obtain rfl : T = 0 := by omega
      go_enter Tryz.func121, Tryz.ntmps121
      go_wp2
      go_ret2
      exact ⟨_, rfl, fun W _ => Seg.zero none zs 0, rfl⟩
    | some ad =>
      go_enter Tryz.func121, Tryz.ntmps121
      go_wp2
      go_ret2
      exact ⟨_, rfl, fun W _ => Seg.zero (some ad) zs T, rfl⟩
  · obtain ⟨b, off, rfl⟩ : ∃ b off, a = some ⟨b, off, none⟩ := by
      rcases HS.out.2.2 with h | ⟨b, off, e, _⟩
      · omega
      · exact ⟨b, off, e⟩
    go_enter Tryz.func121, Tryz.ntmps121
    go_wp2
    go_ret2
    exact ⟨_, rfl, fun W hW => hW.part T n h, rfl⟩


set_option maxRecDepth 10000 in
set_option maxHeartbeats 800000 in
theorem shortAt_any (a : Option Addr) (len cap T : Nat) (zs : List Int) (w : World) (hs : Seg w a len zs) (hc : len ≤ cap) (hl : len ≤ 1099511627776) (hT : T ≤ 1000000) :
    Calls Tryz.prog 108 #[.slice a len cap, .int .i64 T] w fun e w' => (∃ a', e = .returned (.tuple #[.slice a' (shortL zs T).length (shortL zs T).length, .int .i64 ((T + 1 + shortN zs T : Nat) : Int)]) ∧ ∀ W, Seg W a len zs → Seg W a' (shortL zs T).length (shortL zs T)) ∧ w' = w := by
  have HS : Hid (Seg w a len zs) := hs
  obtain ⟨hn, hn255⟩ := shortN_is zs hs.2.1 T
  have hzl := hs.1
  have HL := (show Hid _ from shortL_len zs T)
  have HD : Hid (T + 1 + shortN zs T ≤ zs.length → shortL zs T = (zs.drop (T + 1)).take (shortN zs T)) := fun h => if_pos h
  have HD2 : Hid (¬ T + 1 + shortN zs T ≤ zs.length → shortL zs T = []) := fun h => if_neg h
  clear hs
  generalize shortN zs T = n at *
  generalize shortL zs T = L at *
  go_enter Tryz.func108, Tryz.ntmps108
  go_wp2_with fail
  refine (implGet_any a len cap T 1 zs w HS.out hc hl (by omega) (by omega)).mono ?_
  rintro e w1 ⟨rfl, rfl⟩
  rw [show ((1 : Int)) = ((1 : Nat) : Int) from rfl, hn]
  generalize hb : (gbr zs (T : Int) ((1 : Nat) : Int)).2 = bb at *
  clear hb hn
  by_cases h : T + 1 + n ≤ zs.length
  · rw [if_pos h] at HL
    have HDD : Hid (L = (zs.drop (T + 1)).take n) := HD.out h
    clear HD HD2
    go_wp2_with fail
    refine (cut_yesW a len cap n (T + 1) zs w1 HS.out hc hl (by omega)).mono ?_
    rintro e w2 ⟨a', rfl, hs2, rfl⟩
    have HS2 : Hid (∀ W, Seg W a len zs → Seg W a' n L) := by rw [HDD.out]; exact hs2
    clear hs2
    go_wp2_with fail
    go_ret2
    exact ⟨⟨a', by rw [HL.out, Int.natCast_add, Int.natCast_add]; rfl, by rw [HL.out]; exact HS2.out⟩, rfl⟩
  · rw [if_neg h] at HL
    have HDD : Hid (L = []) := HD2.out h
    clear HD HD2
    go_wp2_with fail
    refine (cut_no a len cap n (T + 1 : Int) w1 hl (by omega) (by omega) (by omega)).mono ?_
    rintro e w2 ⟨rfl, rfl⟩
    go_wp2_with fail
    go_ret2
    exact ⟨⟨none, by rw [HL.out, Int.natCast_add, Int.natCast_add]; rfl, fun W _ => by rw [HDD.out]; exact ⟨rfl, by simp, .inl rfl⟩⟩, rfl⟩

theorem shortAt_at (a : Option Addr) (len cap T : Nat) (K : Int) (hK : K = (T : Int)) (zs : List Int) (w : World) (hs : Seg w a len zs) (hc : len ≤ cap) (hl : len ≤ 1099511627776) (hT : T ≤ 1000000) :
    Calls Tryz.prog 108 #[.slice a len cap, .int .i64 K] w fun e w' => (∃ a', e = .returned (.tuple #[.slice a' (shortL zs T).length (shortL zs T).length, .int .i64 ((T + 1 + shortN zs T : Nat) : Int)]) ∧ ∀ W, Seg W a len zs → Seg W a' (shortL zs T).length (shortL zs T)) ∧ w' = w := by
  subst hK
  exact shortAt_any a len cap T zs w hs hc hl hT

end Go.Proofs.YtlkgopoicpnacaaGreatDoor

namespace Go.Proofs.YtlkgopoicpnacaaGreatDoor
open Go.RowKit
set_option linter.unusedVariables false

set_option maxRecDepth 10000 in
set_option maxHeartbeats 3200000 in
theorem recOfI_any (a : Option Addr) (len cap : Nat) (zs : List Int) (w : World) (hs : Seg w a len zs) (hc : len ≤ cap) (hl : len ≤ 48) :
    Calls Tryz.prog 91 #[.slice a len cap] w fun e w' => (∃ A C, e = .returned (.agg #[.int .i64 (looseR zs).e, .int .i64 (looseR zs).q, .int .i64 (looseR zs).k, .string (looseR zs).id, .int .i64 (looseR zs).n, .slice A (looseR zs).zs.length C]) ∧ Owns w' w.heap.size A (looseR zs).zs.length C (looseR zs).zs) ∧ Below w.heap.size w w' := by
  have HS : Hid (∀ W, Below w.heap.size w W → Seg W a len zs) := fun W h => hs.below h
  have HZl : Hid (zs.length = len) := hs.1
  obtain ⟨hN, hN255⟩ := shortN_is zs hs.2.1 6
  have HD255 := (show Hid _ from (shortN_is zs hs.2.1 (11 + shortN zs 6)).2)
  have HLl : Hid ((shortL zs (11 + shortN zs 6)).length ≤ 48) := by
    show _ ≤ _
    rw [shortL_len]
    split
    · have := hs.1; omega
    · omega
  clear hs hN
  rw [looseR]
  dsimp only
  generalize hN6 : shortN zs 6 = N at *
  generalize hy0 : (gbr zs ((0 : Nat) : Int) ((3 : Nat) : Int)).1 = y0 at *
  generalize hy1 : (gbr zs ((3 : Nat) : Int) ((2 : Nat) : Int)).1 = y1 at *
  generalize hy2 : (gbr zs ((5 : Nat) : Int) ((1 : Nat) : Int)).1 = y2 at *
  generalize hy4 : (gbr zs ((7 + N : Nat) : Int) ((4 : Nat) : Int)).1 = y4 at *
  generalize hLi : shortL zs 6 = Li at *
  generalize hLd : shortL zs (11 + N) = Ld at *
  have HN6 : Hid (shortN zs 6 = N) := hN6
  have HY0 : Hid ((gbr zs ((0 : Nat) : Int) ((3 : Nat) : Int)).1 = y0) := hy0
  have HY1 : Hid ((gbr zs ((3 : Nat) : Int) ((2 : Nat) : Int)).1 = y1) := hy1
  have HY2 : Hid ((gbr zs ((5 : Nat) : Int) ((1 : Nat) : Int)).1 = y2) := hy2
  have HY4 : Hid ((gbr zs ((7 + N : Nat) : Int) ((4 : Nat) : Int)).1 = y4) := hy4
  have HLi : Hid (shortL zs 6 = Li) := hLi
  have HLd : Hid (shortL zs (11 + N) = Ld) := hLd
  clear hN6 hy0 hy1 hy2 hy4 hLi hLd
  obtain ⟨w0, hw0⟩ : ∃ w0, w.alloc (.cells #[.int .i64 0, .int .i64 0, .int .i64 0, .string ⟨#[]⟩, .int .i64 0, .slice none 0 0] 107) = w0 := ⟨_, rfl⟩
  have HE : Hid (w.alloc (.cells #[.int .i64 0, .int .i64 0, .int .i64 0, .string ⟨#[]⟩, .int .i64 0, .slice none 0 0] 107) = w0) := hw0
  have HQ0 : Hid (BoxN w0 w.heap.size 107 [.int .i64 0, .int .i64 0, .int .i64 0, .string ⟨#[]⟩, .int .i64 0, .slice none 0 0]) := by show BoxN _ _ _ _; rw [← hw0]; exact BoxN.new _ _ _
  have HB0 : Hid (Below w.heap.size w w0) := by show Below _ _ _; rw [← hw0]; exact (Below.refl _ _).alloc (Nat.le_refl _) _
  have HR1 : Hid (BoxN (w0.alloc (.cells #[.int .i64 0, .int .i64 0, .int .i64 0, .string ⟨#[]⟩, .int .i64 0, .slice none 0 0] 107)) w0.heap.size 107 [.int .i64 0, .int .i64 0, .int .i64 0, .string ⟨#[]⟩, .int .i64 0, .slice none 0 0]) := BoxN.new _ _ _
  have HQ1 : Hid (BoxN (w0.alloc (.cells #[.int .i64 0, .int .i64 0, .int .i64 0, .string ⟨#[]⟩, .int .i64 0, .slice none 0 0] 107)) w.heap.size 107 [.int .i64 0, .int .i64 0, .int .i64 0, .string ⟨#[]⟩, .int .i64 0, .slice none 0 0]) := HQ0.out.alloc _
  have HB1 : Hid (Below w.heap.size w (w0.alloc (.cells #[.int .i64 0, .int .i64 0, .int .i64 0, .string ⟨#[]⟩, .int .i64 0, .slice none 0 0] 107))) := HB0.out.alloc HB0.out.size _
  have hrr : w.heap.size < w0.heap.size := HQ0.out.lt
  clear hw0
  go_enter Tryz.func91, Tryz.ntmps91
  go_upto_region 1 with fail
  rw [HE.out]
  clear HE
  go_upto_region 2 with fail
  obtain ⟨W1, hW1⟩ : ∃ W1, w0.alloc (.cells #[.int .i64 0, .int .i64 0, .int .i64 0, .string ⟨#[]⟩, .int .i64 0, .slice none 0 0] 107) = W1 := ⟨_, rfl⟩
  rw [hW1] at HR1 HQ1 HB1 ⊢
  clear hW1 HQ0 HB0
  generalize w0.heap.size = rr at *
  go_wp2_with fail
  refine (implGet_any a len cap 0 3 zs W1 (HS.out _ HB1.out) hc (by omega) (by omega) (by omega)).mono ?_
  rintro e V ⟨rfl, hV⟩
  rw [hV]
  clear hV V
  rw [show (gbr zs 0 3).1 = y0 from HY0.out]
  generalize (gbr zs 0 3).2 = bb1
  have hf := HR1.out.frozen 0
  have hcc := HR1.out.cell 0 rfl
  have HR2 : Hid (BoxN (W1.setCell ⟨rr, 0, none⟩ (.int .i64 y0)) rr 107 [.int .i64 y0, .int .i64 0, .int .i64 0, .string ⟨#[]⟩, .int .i64 0, .slice none 0 0]) := HR1.out.set 0 _
  have HQ2 : Hid (BoxN (W1.setCell ⟨rr, 0, none⟩ (.int .i64 y0)) w.heap.size 107 [.int .i64 0, .int .i64 0, .int .i64 0, .string ⟨#[]⟩, .int .i64 0, .slice none 0 0]) := HQ1.out.other (by omega) _
  have HB2 : Hid (Below w.heap.size w (W1.setCell ⟨rr, 0, none⟩ (.int .i64 y0))) := HB1.out.setCell (by dsimp only; omega) _
  go_upto_region 3 with fail
  obtain ⟨W2, hW⟩ : ∃ W2, (W1.setCell ⟨rr, 0, none⟩ (.int .i64 y0)) = W2 := ⟨_, rfl⟩
  rw [hW] at HR2 HQ2 HB2 ⊢
  clear hW hf hcc HR1 HQ1 HB1
  go_wp2_with fail
  refine (implGet_any a len cap 3 2 zs W2 (HS.out _ HB2.out) hc (by omega) (by omega) (by omega)).mono ?_
  rintro e V ⟨rfl, hV⟩
  rw [hV]
  clear hV V
  rw [show (gbr zs 3 2).1 = y1 from HY1.out]
  generalize (gbr zs 3 2).2 = bb2
  have hf := HR2.out.frozen 1
  have hcc := HR2.out.cell 1 rfl
  have HR3 : Hid (BoxN (W2.setCell ⟨rr, 1, none⟩ (.int .i64 y1)) rr 107 [.int .i64 y0, .int .i64 y1, .int .i64 0, .string ⟨#[]⟩, .int .i64 0, .slice none 0 0]) := HR2.out.set 1 _
  have HQ3 : Hid (BoxN (W2.setCell ⟨rr, 1, none⟩ (.int .i64 y1)) w.heap.size 107 [.int .i64 0, .int .i64 0, .int .i64 0, .string ⟨#[]⟩, .int .i64 0, .slice none 0 0]) := HQ2.out.other (by omega) _
  have HB3 : Hid (Below w.heap.size w (W2.setCell ⟨rr, 1, none⟩ (.int .i64 y1))) := HB2.out.setCell (by dsimp only; omega) _
  go_upto_region 4 with fail
  obtain ⟨W3, hW⟩ : ∃ W3, (W2.setCell ⟨rr, 1, none⟩ (.int .i64 y1)) = W3 := ⟨_, rfl⟩
  rw [hW] at HR3 HQ3 HB3 ⊢
  clear hW hf hcc HR2 HQ2 HB2
  go_wp2_with fail
  refine (implGet_any a len cap 5 1 zs W3 (HS.out _ HB3.out) hc (by omega) (by omega) (by omega)).mono ?_
  rintro e V ⟨rfl, hV⟩
  rw [hV]
  clear hV V
  rw [show (gbr zs 5 1).1 = y2 from HY2.out]
  generalize (gbr zs 5 1).2 = bb3
  have hf := HR3.out.frozen 2
  have hcc := HR3.out.cell 2 rfl
  have HR4 : Hid (BoxN (W3.setCell ⟨rr, 2, none⟩ (.int .i64 y2)) rr 107 [.int .i64 y0, .int .i64 y1, .int .i64 y2, .string ⟨#[]⟩, .int .i64 0, .slice none 0 0]) := HR3.out.set 2 _
  have HQ4 : Hid (BoxN (W3.setCell ⟨rr, 2, none⟩ (.int .i64 y2)) w.heap.size 107 [.int .i64 0, .int .i64 0, .int .i64 0, .string ⟨#[]⟩, .int .i64 0, .slice none 0 0]) := HQ3.out.other (by omega) _
  have HB4 : Hid (Below w.heap.size w (W3.setCell ⟨rr, 2, none⟩ (.int .i64 y2))) := HB3.out.setCell (by dsimp only; omega) _
  go_upto_region 5 with fail
  obtain ⟨W4, hW⟩ : ∃ W4, (W3.setCell ⟨rr, 2, none⟩ (.int .i64 y2)) = W4 := ⟨_, rfl⟩
  rw [hW] at HR4 HQ4 HB4 ⊢
  clear hW hf hcc HR3 HQ3 HB3
  go_wp2_with fail
  refine (shortAt_any a len cap 6 zs W4 (HS.out _ HB4.out) hc (by omega) (by omega)).mono ?_
  rintro e V ⟨⟨ai, rfl, hsi⟩, hV⟩
  rw [hV]
  clear hV V
  rw [HLi.out] at hsi
  rw [HN6.out, HLi.out]
  have HSi : Hid (∀ W, Below w.heap.size w W → Seg W ai Li.length Li) := fun W h => hsi W (HS.out W h)
  clear hsi
  generalize hni : Li.length = ni at *
  clear hni
  go_upto_region 6 with fail
  go_wp2_with fail
  refine (implGet_any a len cap ((7 + N : Nat) : Int) 4 zs W4 (HS.out _ HB4.out) hc (by omega) (by omega) (by omega)).mono ?_
  rintro e V ⟨rfl, hV⟩
  rw [hV]
  clear hV V
  rw [show (gbr zs ((7 + N : Nat) : Int) 4).1 = y4 from HY4.out]
  generalize (gbr zs ((7 + N : Nat) : Int) 4).2 = bb4
  have hf := HR4.out.frozen 4
  have hcc := HR4.out.cell 4 rfl
  have HR5 : Hid (BoxN (W4.setCell ⟨rr, 4, none⟩ (.int .i64 y4)) rr 107 [.int .i64 y0, .int .i64 y1, .int .i64 y2, .string ⟨#[]⟩, .int .i64 y4, .slice none 0 0]) := HR4.out.set 4 _
  have HQ5 : Hid (BoxN (W4.setCell ⟨rr, 4, none⟩ (.int .i64 y4)) w.heap.size 107 [.int .i64 0, .int .i64 0, .int .i64 0, .string ⟨#[]⟩, .int .i64 0, .slice none 0 0]) := HQ4.out.other (by omega) _
  have HB5 : Hid (Below w.heap.size w (W4.setCell ⟨rr, 4, none⟩ (.int .i64 y4))) := HB4.out.setCell (by dsimp only; omega) _
  go_upto_region 7 with fail
  obtain ⟨W5, hW⟩ : ∃ W5, (W4.setCell ⟨rr, 4, none⟩ (.int .i64 y4)) = W5 := ⟨_, rfl⟩
  rw [hW] at HR5 HQ5 HB5 ⊢
  clear hW hf hcc HR4 HQ4 HB4
  go_wp2_with fail
  refine (shortAt_at a len cap (11 + N) _ (by omega) zs W5 (HS.out _ HB5.out) hc (by omega) (by omega)).mono ?_
  rintro e V ⟨⟨ad, rfl, hsd⟩, hV⟩
  rw [hV]
  clear hV V
  rw [HLd.out] at hsd
  rw [HLd.out]
  generalize 11 + N + 1 + shortN zs (11 + N) = pe
  have HSd : Hid (Seg W5 ad Ld.length Ld) := hsd W5 (HS.out W5 HB5.out)
  have hLl : Ld.length ≤ 48 := HLl.out
  clear hsd
  go_upto_region 8 with fail
  have hcv := conv_seg (c := ni) (HSi.out _ HB5.out.drew)
  have HSd1 : Hid (Seg W5.drew ad Ld.length Ld) := HSd.out.below ((Below.refl _ _).drew)
  have HBd : Hid (Below w.heap.size w W5.drew) := HB5.out.drew
  have HRd : Hid (BoxN W5.drew rr 107 [.int .i64 y0, .int .i64 y1, .int .i64 y2, .string ⟨#[]⟩, .int .i64 y4, .slice none 0 0]) := HR5.out
  have HQd : Hid (BoxN W5.drew w.heap.size 107 [.int .i64 0, .int .i64 0, .int .i64 0, .string ⟨#[]⟩, .int .i64 0, .slice none 0 0]) := HQ5.out
  have hrl : rr < W5.drew.heap.size := HRd.out.lt
  have HFin : Hid (∀ V Ad Cd, Owns V W5.drew.heap.size Ad Ld.length Cd Ld → Below W5.drew.heap.size W5.drew V → Hid (BoxN ((V.setCell ⟨rr, 3, none⟩ (.string (txU Li))).setCell ⟨rr, 5, none⟩ (.slice Ad Ld.length Cd)) rr 107 [.int .i64 y0, .int .i64 y1, .int .i64 y2, .string (txU Li), .int .i64 y4, .slice Ad Ld.length Cd]) ∧ Hid (BoxN ((V.setCell ⟨rr, 3, none⟩ (.string (txU Li))).setCell ⟨rr, 5, none⟩ (.slice Ad Ld.length Cd)) w.heap.size 107 [.int .i64 0, .int .i64 0, .int .i64 0, .string ⟨#[]⟩, .int .i64 0, .slice none 0 0]) ∧ Hid (Below w.heap.size w ((V.setCell ⟨rr, 3, none⟩ (.string (txU Li))).setCell ⟨rr, 5, none⟩ (.slice Ad Ld.length Cd))) ∧ Hid (Owns ((V.setCell ⟨rr, 3, none⟩ (.string (txU Li))).setCell ⟨rr, 5, none⟩ (.slice Ad Ld.length Cd)) (rr + 1) Ad Ld.length Cd Ld)) := by
    intro V Ad Cd ho hb
    have hA : Ad.map (·.block) ≠ some rr := fun e => by have := (ho.lt _ e).1; omega
    refine ⟨((HRd.out.stays hb).set 3 _).set 5 _, ((HQd.out.stays hb).other (by omega) _).other (by omega) _, ((HBd.out.trans (hb.mono HBd.out.size)).setCell (by dsimp only; omega) _).setCell (by dsimp only; omega) _, owns_low (owns_set (owns_set ho hA) hA) (by omega)⟩
  have HKp : Hid (∀ V, Below W5.drew.heap.size W5.drew V → (convert 22 9 (.slice ai ni ni)).run Tryz.prog V = .ok (.string (txU Li)) V ∧ V.cell? ⟨rr, 3, none⟩ = some (.string ⟨#[]⟩) ∧ V.cell? ⟨rr, 5, none⟩ = some (.slice none 0 0) ∧ V.frozen? ⟨rr, 3, none⟩ = false ∧ V.frozen? ⟨rr, 5, none⟩ = false) := fun V hb => ⟨conv_seg (HSi.out V (HBd.out.trans (hb.mono HBd.out.size))), (HRd.out.stays hb).cell 3 rfl, (HRd.out.stays hb).cell 5 rfl, (HRd.out.stays hb).frozen 3, (HRd.out.stays hb).frozen 5⟩
  clear HSd HR5 HQ5 HB5 hcv
  go_cut [] from 9 (fun W => ∃ Ad Cd, Hid (BoxN W rr 107 [.int .i64 y0, .int .i64 y1, .int .i64 y2, .string (txU Li), .int .i64 y4, .slice Ad Ld.length Cd]) ∧ Hid (BoxN W w.heap.size 107 [.int .i64 0, .int .i64 0, .int .i64 0, .string ⟨#[]⟩, .int .i64 0, .slice none 0 0]) ∧ Hid (Below w.heap.size w W) ∧ Hid (Owns W (rr + 1) Ad Ld.length Cd Ld))
  case first =>
    have hcv0 := (HKp.out _ (Below.refl _ _)).1
    go_region_with (first
      | (go_at_call 89; refine (cloneB_any ad Ld.length Ld.length Ld _ HSd1.out (by omega)).mono ?_; rintro e V ⟨Ad, Cd, rfl, ho, hbV⟩
         obtain ⟨hcv, k3, k5, z3, z5⟩ := HKp.out V hbV)
      | fail)
    all_goals
      have HF := (show Hid _ from HFin.out V Ad Cd ho hbV)
      clear ho hbV hcv k3 k5 z3 z5 hcv0
      go_wp2_with fail
      go_meet
      exact ⟨Ad, Cd, HF.out⟩
  case rest =>
  obtain ⟨W6, hW6⟩ : ∃ W6, wc = W6 := ⟨_, rfl⟩
  rw [hW6] at hcut ⊢
  clear hW6 HFin HKp HBd HRd HQd HSd1 hrl
  obtain ⟨Ad, Cd, HR6, HQ6, HB6, HO6⟩ := hcut
  have HO9 : Hid (∀ (u0 u1 u2 u3 u4 u5 : Value), Owns ((((((W6.setCell ⟨w.heap.size, 0, none⟩ u0).setCell ⟨w.heap.size, 1, none⟩ u1).setCell ⟨w.heap.size, 2, none⟩ u2).setCell ⟨w.heap.size, 3, none⟩ u3).setCell ⟨w.heap.size, 4, none⟩ u4).setCell ⟨w.heap.size, 5, none⟩ u5) w.heap.size Ad Ld.length Cd Ld) := fun u0 u1 u2 u3 u4 u5 => by
    have hA : Ad.map (·.block) ≠ some w.heap.size := fun e => by have := (HO6.out.lt _ e).1; omega
    exact owns_low (owns_set (owns_set (owns_set (owns_set (owns_set (owns_set HO6.out hA) hA) hA) hA) hA) hA) (by omega)
  obtain ⟨z0, z1, z2, z3, z4, z5⟩ := (show _ ∧ _ ∧ _ ∧ _ ∧ _ ∧ _ from ⟨HR6.out.cell 0 rfl, HR6.out.cell 1 rfl, HR6.out.cell 2 rfl, HR6.out.cell 3 rfl, HR6.out.cell 4 rfl, HR6.out.cell 5 rfl⟩)
  obtain ⟨r0, r1, r2, r3, r4, r5⟩ := (show _ ∧ _ ∧ _ ∧ _ ∧ _ ∧ _ from ⟨HQ6.out.cell 0 rfl, HQ6.out.cell 1 rfl, HQ6.out.cell 2 rfl, HQ6.out.cell 3 rfl, HQ6.out.cell 4 rfl, HQ6.out.cell 5 rfl⟩)
  have f0 := HQ6.out.frozen 0
  have f1 := HQ6.out.frozen 1
  have f2 := HQ6.out.frozen 2
  have f3 := HQ6.out.frozen 3
  have f4 := HQ6.out.frozen 4
  have f5 := HQ6.out.frozen 5
  clear HR6 HQ6 HO6
  go_wp2_with fail
  refine bodyPost_ret (v := .agg #[.int .i64 y0, .int .i64 y1, .int .i64 y2, .string (txU Li), .int .i64 y4, .slice Ad Ld.length Cd]) (by simp [results, Tryz.f91, go_sem, r0, r1, r2, r3, r4, r5]) rfl ?_
  exact ⟨⟨Ad, Cd, rfl, HO9.out _ _ _ _ _ _⟩, (((((HB6.out.setCell (Nat.le_refl _) _).setCell (Nat.le_refl _) _).setCell (Nat.le_refl _) _).setCell (Nat.le_refl _) _).setCell (Nat.le_refl _) _).setCell (Nat.le_refl _) _⟩

end Go.Proofs.YtlkgopoicpnacaaGreatDoor

namespace Go.Proofs.YtlkgopoicpnacaaGreatDoor
open Go.RowKit
set_option linter.unusedVariables false

/-- The greatest N of a kind; the fewest and the most bytes of data. -/
def rMost (k : Nat) : Int := if k = 1 ∨ k = 2 then 1000000000 else 0
def rLo (k : Nat) : Int := if k = 2 then 1 else 0
def rHi (k : Nat) : Int := if k = 2 then 24 else 0

/-- The variable holds the table: five rows of three numbers. -/
def RecT (w : World) : Prop := 0 < w.heap.size ∧ ∀ k : Nat, k ≤ 4 → w.cell? ⟨0, k * 3, none⟩ = some (.int .i64 (rMost k)) ∧ w.cell? ⟨0, k * 3 + 1, none⟩ = some (.int .i64 (rLo k)) ∧ w.cell? ⟨0, k * 3 + 2, none⟩ = some (.int .i64 (rHi k))

theorem RecT.below {w W : World} (h : RecT w) (hb : Below w.heap.size w W) : RecT W :=
  ⟨Nat.lt_of_lt_of_le h.1 hb.size, fun k hk => ⟨(hb.cell (p := ⟨0, k * 3, none⟩) h.1).trans (h.2 k hk).1, (hb.cell (p := ⟨0, k * 3 + 1, none⟩) h.1).trans (h.2 k hk).2.1, (hb.cell (p := ⟨0, k * 3 + 2, none⟩) h.1).trans (h.2 k hk).2.2⟩⟩

/-- Which numbers and how many bytes fit a kind, by the table. -/
theorem kindB_tab (k : Nat) (h1 : 1 ≤ k) (h4 : k ≤ 4) (n : Int) (d : Nat) : kindB (k : Int) n d = decide (0 ≤ n ∧ n ≤ rMost k ∧ rLo k ≤ (d : Int) ∧ (d : Int) ≤ rHi k) := by
  have hk : k = 1 ∨ k = 2 ∨ k = 3 ∨ k = 4 := by omega
  rw [Bool.eq_iff_iff]
  rcases hk with rfl | rfl | rfl | rfl
  all_goals
    simp [kindB, rMost, rLo, rHi]
    omega

theorem kindB_out (k : Int) (h : ¬ (1 ≤ k ∧ k ≤ 4)) (n : Int) (d : Nat) : kindB k n d = false := by
  rw [kindB, if_neg (by omega), if_neg (by omega), if_neg (by omega)]

end Go.Proofs.YtlkgopoicpnacaaGreatDoor
