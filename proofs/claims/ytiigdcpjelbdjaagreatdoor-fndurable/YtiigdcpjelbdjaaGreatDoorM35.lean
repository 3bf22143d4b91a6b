/- What the library's IndexFunc and ContainsFunc answer of texts that may be too long. What the program's DiskOk answers. What both programs' GetBig answer: the number of the bytes there and true, or 0 and false; nothing is written. For lists of at most 2^40 bytes. The record that the program tells of bytes, what is not there as noughts; no program in it. What the program's cutAt answers: a part of bytes. -/
import Derived.Test.YtiigdcpjelbdjaaGreatDoorM34
import Derived.Test.YtiigdcpjelbdjaaGreatDoorM18
import Derived.Test.YtiigdcpjelbdjaaGreatDoorM01
import Derived.Test.YtiigdcpjelbdjaaGreatDoorM01
import Derived.Test.YtiigdcpjelbdjaaGreatDoorM06
namespace Go.Proofs.YtiigdcpjelbdjaaGreatDoor
open Go.RowKit
set_option linter.unusedVariables false

/-- Whether one of the texts is too long. -/
def anyL (xs : List ByteArray) : Bool := !xs.all fitsD

theorem anyL_false {xs : List ByteArray} (h : ∀ (k : Nat) (x : ByteArray), xs[k]? = some x → fitsD x = true) : anyL xs = false := by
  have : xs.all fitsD = true := by
    rw [List.all_eq_true]
    intro f hf
    obtain ⟨k, hk, rfl⟩ := List.mem_iff_getElem.1 hf
    exact h k _ (List.getElem?_eq_getElem hk)
  rw [anyL, this]
  rfl

theorem anyL_true {xs : List ByteArray} {k : Nat} {x : ByteArray} (h : xs[k]? = some x) (hw : fitsD x = false) : anyL xs = true := by
  have : xs.all fitsD = false := by
    rw [List.all_eq_false]
    exact ⟨x, List.mem_of_getElem? h, by simp [hw]⟩
  rw [anyL, this]
  rfl

set_option maxRecDepth 10000 in
set_option maxHeartbeats 800000 in
theorem implIdxL_any (a : Option Addr) (len cap : Nat) (xs : List ByteArray) (w : World) (hx : Strs w a len xs) (hl : len ≤ 1099511627776) :
    Calls Tryz.prog 74 #[.slice a len cap, .func (.func 47) #[] #[]] w fun e w' => (∃ k : Int, e = .returned (.int .i64 k) ∧ decide (0 ≤ k) = anyL xs) ∧ Below w.heap.size w w' := by
  have HX : Hid (Strs w a len xs) := hx
  have HL : Hid (xs.length = len) := hx.1
  clear hx
  go_enter Tryz.func74, Tryz.ntmps74
  go_wp2_with fail
  go_loopw [8] (fun v wr => ∃ k : Nat, k ≤ len ∧ v = .int .i64 k ∧ Hid (Below w.heap.size w wr) ∧ Hid (∀ (j : Nat) (x : ByteArray), j < k → xs[j]? = some x → fitsD x = true)) (fun v _ => len - (intOf v).toNat)
  case atStart => exact ⟨0, Nat.zero_le _, rfl, Below.refl _ _, fun j _ hj => absurd hj (Nat.not_lt_zero _)⟩
  case round =>
    obtain ⟨k, hk, rfl, HB, HN⟩ := hrel
    by_cases hlt : k < len
    · have hki : (k : Int) < (len : Int) := by omega
      obtain ⟨b, off, x, rfl, hb, hkx, hp⟩ := (HX.out.below HB.out).at hlt
      have hxm := HX.out.2.1 x (List.mem_of_getElem? hkx)
      have HK : Hid (xs[k]? = some x) := hkx
      have HO : Hid (∀ W : World, Calls Tryz.prog 47 #[.string x] W fun e w' => e = .returned (.bool (!fitsD x)) ∧ w' = W) := fun W => implLong_any x W hxm
      clear hkx hxm
      go_wp2_with fail
      refine (HO.out _).mono ?_
      rintro e w1 ⟨rfl, rfl⟩
      cases hpr : fitsD x
      case false =>
        have HE : Hid (anyL xs = true) := anyL_true HK.out hpr
        clear hpr
        go_wp2_with fail
        go_ret
        exact ⟨⟨k, rfl, by rw [HE.out]; simp⟩, HB.out⟩
      case true =>
        have HN2 : Hid (∀ (j : Nat) (x : ByteArray), j < k + 1 → xs[j]? = some x → fitsD x = true) := fun j u hj hju => by
          by_cases e : j = k
          · subst e
            rw [HK.out] at hju
            injection hju with e1
            rw [← e1]
            exact hpr
          · exact HN.out j u (by omega) hju
        clear hpr HN
        go_wp2_with fail
        go_roundw
        case rel => exact ⟨k + 1, by omega, by go_num, HB, HN2⟩
        case measure => simp [intOf]; omega
    · have HE : Hid (anyL xs = false) := anyL_false fun j x hjx => HN.out j x (by have := (List.getElem?_eq_some_iff.1 hjx).1; have := HL.out; omega) hjx
      have hkl : len = k := by omega
      clear HN HX HL
      subst hkl
      go_wp2_with fail
      go_ret
      exact ⟨⟨-1, rfl, by rw [HE.out]; rfl⟩, HB.out⟩

set_option maxRecDepth 10000 in
theorem implAnyL_any (a : Option Addr) (len cap : Nat) (xs : List ByteArray) (w : World) (hx : Strs w a len xs) (hl : len ≤ 1099511627776) :
    Calls Tryz.prog 46 #[.slice a len cap, .func (.func 47) #[] #[]] w fun e w' => e = .returned (.bool (anyL xs)) ∧ Below w.heap.size w w' := by
  go_enter Tryz.func46, Tryz.ntmps46
  go_wp2_with fail
  refine (implIdxL_any a len cap xs w hx hl).mono ?_
  rintro e w1 ⟨⟨k, rfl, hk⟩, hb1⟩
  have HK : Hid (decide (0 ≤ k) = anyL xs) := hk
  have HB1 : Hid (Below w.heap.size w w1) := hb1
  clear hk hb1 hx
  go_wp2_with fail
  go_ret
  exact ⟨ret_bD HK.out, HB1.out⟩

end Go.Proofs.YtiigdcpjelbdjaaGreatDoor

namespace Go.Proofs.YtiigdcpjelbdjaaGreatDoor
open Go.RowKit
set_option linter.unusedVariables false

set_option maxRecDepth 10000 in
set_option maxHeartbeats 1600000 in
theorem implDok_any (a : Option Addr) (n ca : Nat) (xs : List ByteArray) (a' : Option Addr) (n' ca' : Nat) (ys : List ByteArray) (w : World) (h1 : Strs w a n xs) (h3 : Strs w a' n' ys) (hn : n ≤ 1099511627776) (hn' : n' ≤ 1099511627776) :
    Calls Tryz.prog 24 #[.agg #[.slice a n ca, .slice a' n' ca']] w fun e w' => e = .returned (.bool (okD xs ys)) ∧ Below w.heap.size w w' := by
  have HX : Hid (∀ W, Below w.heap.size w W → Strs W a n xs ∧ Strs W a' n' ys) := fun W h => ⟨h1.below h, h3.below h⟩
  have HL : Hid (xs.length = n ∧ ys.length = n') := ⟨h1.1, h3.1⟩
  clear h1 h3
  have HA : Hid (Box2R (w.alloc (Obj.cells #[Value.slice a n ca, Value.slice a' n' ca'] 26)) w.heap.size 26 (.slice a n ca) (.slice a' n' ca')) := Box2R.new _ _ _ _
  have HB : Hid (Below w.heap.size w (w.alloc (Obj.cells #[Value.slice a n ca, Value.slice a' n' ca'] 26))) := (Below.refl _ _).alloc (Nat.le_refl _) _
  by_cases hne : n = n'
  case neg =>
    have HF : Hid (okD xs ys = false) := okD_len (fun h => hne (by rw [← HL.out.1, ← HL.out.2]; exact h.1))
    have e1 : ((n : Int) != (n' : Int)) = true := by simp; omega
    go_enter Tryz.func24, Tryz.ntmps24
    go_wp2_with fail
    go_ret
    exact ⟨by rw [HF.out]; rfl, HB.out⟩
  subst hne
  have e1 : ((n : Int) != (n : Int)) = false := by simp
  by_cases hbig : 200 < n
  · have HF : Hid (okD xs ys = false) := okD_len (fun h => by have := HL.out; omega)
    go_enter Tryz.func24, Tryz.ntmps24
    go_wp2_with fail
    go_ret
    exact ⟨by rw [HF.out]; rfl, HB.out⟩
  have HO : Hid (okD xs ys = (!anyL xs && !anyL ys)) := by
    show _ = _
    rw [okD, anyL, anyL, decide_eq_true (show xs.length = ys.length ∧ xs.length ≤ 200 by have := HL.out; omega), Bool.true_and, Bool.not_not, Bool.not_not]
  go_enter Tryz.func24, Tryz.ntmps24
  go_wp2_with fail
  obtain ⟨w0, hw0⟩ : ∃ w0, w.alloc (Obj.cells #[Value.slice a n ca, Value.slice a' n ca'] 26) = w0 := ⟨_, rfl⟩
  rw [hw0] at HA HB ⊢
  clear hw0
  refine (implAnyL_any a n ca xs _ (HX.out _ HB.out).1 hn).mono ?_
  rintro e w1 ⟨rfl, hb1⟩
  have HB1 : Hid (Below w.heap.size w w1) := HB.out.trans (hb1.mono HB.out.size)
  obtain ⟨c0, c1⟩ := (HA.out.stays hb1).cells
  clear hb1 HB HA
  cases hA : anyL xs
  · have HF : Hid (okD xs ys = !anyL ys) := by show _ = _; rw [HO.out, hA]; rfl
    clear hA HO
    go_wp2_with fail
    refine (implAnyL_any a' n ca' ys _ (HX.out _ HB1.out).2 hn).mono ?_
    rintro e w2 ⟨rfl, hb2⟩
    have HB2 : Hid (Below w.heap.size w w2) := HB1.out.trans (hb2.mono HB1.out.size)
    clear hb2
    go_wp2_with fail
    go_ret
    exact ⟨ret_bD HF.out.symm, HB2.out⟩
  · have HF : Hid (okD xs ys = false) := by show _ = _; rw [HO.out, hA]; rfl
    clear hA HO
    go_wp2_with fail
    go_ret
    exact ⟨ret_bD HF.out.symm, HB1.out⟩

end Go.Proofs.YtiigdcpjelbdjaaGreatDoor

namespace Go.Proofs.YtiigdcpjelbdjaaGreatDoor
open Go.RowKit

set_option maxHeartbeats 400000 in
theorem implGet_yes (a : Option Addr) (len cap at_ k : Nat) (zs : List Int) (w : World) (hs : Seg w a len zs) (hcap : len ≤ cap) (hl : len ≤ 1099511627776) (h1 : 1 ≤ k) (h7 : k ≤ 7) (hat : at_ + k ≤ len) :
    Calls Tryz.prog 97 #[.slice a len cap, .int .i64 at_, .int .i64 k] w fun e w' => e = .returned (.tuple #[.int .i64 (gb ((zs.drop at_).take k)), .bool true]) ∧ w' = w := by
  have hl0 : 0 < len := by omega
  obtain ⟨b, off, rfl, hb, hc⟩ : ∃ b off, a = some ⟨b, off, none⟩ ∧ b < w.heap.size ∧ ∀ i, i < len → w.cell? ⟨b, off + i, none⟩ = some (.int .u8 (zs.getD i 0)) := by
    rcases hs.2.2 with h | h
    · omega
    · exact h
  have HS : Hid (Seg w (some ⟨b, off, none⟩) len zs) := hs
  have hC : Hid (∀ i, i < len → w.cell? ⟨b, off + i, none⟩ = some (.int .u8 (zs.getD i 0))) := hc
  clear hc hs
  go_enter Tryz.func97, Tryz.ntmps97
  go_wp2
  go_loop [8, 34] (fun n i => ∃ j : Nat, j ≤ k ∧ i = .int .i64 j ∧ n = .int .i64 (gb ((zs.drop at_).take j))) (fun _ i => k - (intOf i).toNat)
  case atStart => exact ⟨0, Nat.zero_le _, rfl, rfl⟩
  case round =>
    obtain ⟨j, hj, rfl, rfl⟩ := hrel
    by_cases hlt : j < k
    · have hcell : w.cell? ⟨b, off + at_ + j, none⟩ = some (.int .u8 (zs.getD (at_ + j) 0)) := by rw [Nat.add_assoc]; exact hC.out (at_ + j) (by omega)
      have hx := HS.out.range (at_ + j)
      have hm := gb_part_bound zs at_ j HS.out.2.1 (by omega)
      have hsn : Hid (gb ((zs.drop at_).take (j + 1)) = gb ((zs.drop at_).take j) * 256 + zs.getD (at_ + j) 0) := by
        show gb _ = _
        rw [drop_take_snoc zs at_ j (by have := HS.out.1; omega), gb_snoc]
      have hmm := gb_part_small zs at_ j HS.out.2.1 (by omega)
      generalize gb ((zs.drop at_).take j) = m at *
      generalize zs.getD (at_ + j) 0 = x at *
      obtain ⟨hx0, hx1⟩ := hx
      obtain ⟨hm0, hm1⟩ := hm
      have hor := join8 m x hm0 (by omega) hx0 hx1
      go_wp2
      go_round
      case rel => exact ⟨j + 1, by omega, by go_num, by rw [hsn.out]⟩
      case measure => simp [intOf]; omega
    · go_wp2
      go_ret2
      have : j = k := by omega
      subst this
      exact ⟨rfl, rfl⟩

set_option maxHeartbeats 400000 in
theorem implGet_no (a : Option Addr) (len cap : Nat) (at_ k : Int) (w : World) (hl : len ≤ 1099511627776) (ha : -9223372036854775808 ≤ at_ ∧ at_ ≤ 9223372036854775807) (hk : -9223372036854775808 ≤ k ∧ k ≤ 9223372036854775807)
    (h : ¬ (1 ≤ k ∧ k ≤ 7 ∧ 0 ≤ at_ ∧ at_ + k ≤ (len : Int))) :
    Calls Tryz.prog 97 #[.slice a len cap, .int .i64 at_, .int .i64 k] w fun e w' => e = .returned (.tuple #[.int .i64 0, .bool false]) ∧ w' = w := by
  obtain ⟨ha0, ha1⟩ := ha
  obtain ⟨hk0, hk1⟩ := hk
  have H : Hid (¬ (1 ≤ k ∧ k ≤ 7 ∧ 0 ≤ at_ ∧ at_ + k ≤ (len : Int))) := h
  clear h
  by_cases h1 : 1 ≤ k
  · by_cases h7 : k ≤ 7
    · by_cases h0 : 0 ≤ at_
      · have h2 : (len : Int) < at_ + k := by have := H.out; omega
        go_enter Tryz.func97, Tryz.ntmps97
        go_wp2
        go_ret2
        exact ⟨rfl, rfl⟩
      · go_enter Tryz.func97, Tryz.ntmps97
        go_wp2
        go_ret2
        exact ⟨rfl, rfl⟩
    · go_enter Tryz.func97, Tryz.ntmps97
      go_wp2
      go_ret2
      exact ⟨rfl, rfl⟩
  · go_enter Tryz.func97, Tryz.ntmps97
    go_wp2
    go_ret2
    exact ⟨rfl, rfl⟩

theorem implGet_any (a : Option Addr) (len cap : Nat) (at_ k : Int) (zs : List Int) (w : World) (hs : Seg w a len zs) (hcap : len ≤ cap) (hl : len ≤ 1099511627776) (ha : -9223372036854775808 ≤ at_ ∧ at_ ≤ 9223372036854775807) (hk : -9223372036854775808 ≤ k ∧ k ≤ 9223372036854775807) :
    Calls Tryz.prog 97 #[.slice a len cap, .int .i64 at_, .int .i64 k] w fun e w' => e = .returned (.tuple #[.int .i64 (gbr zs at_ k).1, .bool (gbr zs at_ k).2]) ∧ w' = w := by
  have hz := hs.1
  by_cases h : 1 ≤ k ∧ k ≤ 7 ∧ 0 ≤ at_ ∧ at_ + k ≤ (zs.length : Int)
  · obtain ⟨K, rfl⟩ := Int.eq_ofNat_of_zero_le (show 0 ≤ k by omega)
    obtain ⟨T, rfl⟩ := Int.eq_ofNat_of_zero_le h.2.2.1
    rw [gbr, if_pos h, Int.toNat_natCast, Int.toNat_natCast]
    exact implGet_yes a len cap T K zs w hs hcap hl (by omega) (by omega) (by omega)
  · rw [gbr, if_neg h]
    exact implGet_no a len cap at_ k w hl ha hk (by omega)

end Go.Proofs.YtiigdcpjelbdjaaGreatDoor

namespace Go.Proofs.YtiigdcpjelbdjaaGreatDoor
open Go.RowKit
set_option linter.unusedVariables false

theorem gbrN (zs : List Int) (at_ k : Nat) (h1 : 1 ≤ k) (h7 : k ≤ 7) : gbr zs (at_ : Int) (k : Int) = if at_ + k ≤ zs.length then (gb ((zs.drop at_).take k), true) else (0, false) := by
  split
  · rename_i h
    rw [gbr, if_pos ⟨by omega, by omega, by omega, by omega⟩, Int.toNat_natCast, Int.toNat_natCast]
  · rename_i h
    rw [gbr, if_neg (by omega)]

theorem gbr_at {zs : List Int} {at_ k : Nat} (h1 : 1 ≤ k) (h7 : k ≤ 7) (h : at_ + k ≤ zs.length) : (gbr zs (at_ : Int) (k : Int)).1 = gb ((zs.drop at_).take k) := by rw [gbrN _ _ _ h1 h7, if_pos h]

/-- How many bytes are told behind a place, and these. -/
def shortN (l : List Int) (T : Nat) : Nat := (gbr l (T : Int) ((1 : Nat) : Int)).1.toNat
def shortL (l : List Int) (T : Nat) : List Int := if T + 1 + shortN l T ≤ l.length then (l.drop (T + 1)).take (shortN l T) else []

theorem gb_one (l : List Int) (hr : ∀ x ∈ l, 0 ≤ x ∧ x ≤ 255) (k : Nat) : 0 ≤ gb ((l.drop k).take 1) ∧ gb ((l.drop k).take 1) ≤ 255 := by
  have h := gb_bound ((l.drop k).take 1) (fun n hn => hr n (List.mem_of_mem_drop (List.mem_of_mem_take hn)))
  have hl : ((l.drop k).take 1).length ≤ 1 := by simp; omega
  have hp : (256 : Nat) ^ ((l.drop k).take 1).length ≤ 256 ^ 1 := Nat.pow_le_pow_right (by omega) hl
  omega

theorem shortN_is (l : List Int) (hr : ∀ x ∈ l, 0 ≤ x ∧ x ≤ 255) (T : Nat) : (gbr l (T : Int) ((1 : Nat) : Int)).1 = (shortN l T : Int) ∧ shortN l T ≤ 255 := by
  have h := gb_one l hr T
  rw [shortN, gbrN l T 1 (by omega) (by omega)]
  split
  · dsimp only
    omega
  · simp

theorem shortL_len (l : List Int) (T : Nat) : (shortL l T).length = if T + 1 + shortN l T ≤ l.length then shortN l T else 0 := by
  rw [shortL]
  split
  · simp
    omega
  · rfl

/-- The record that is told. -/
def looseR (l : List Int) : R :=
  ⟨(gbr l ((0 : Nat) : Int) ((3 : Nat) : Int)).1, (gbr l ((3 : Nat) : Int) ((2 : Nat) : Int)).1, (gbr l ((5 : Nat) : Int) ((1 : Nat) : Int)).1, txU (shortL l 6), (gbr l ((7 + shortN l 6 : Nat) : Int) ((4 : Nat) : Int)).1, shortL l (11 + shortN l 6)⟩

/-- Where all is there it is that one. -/
theorem loose_is {l : List Int} (h : 16 + idN l + dataN l ≤ l.length) : looseR l = parseR l := by
  have e6 : shortN l 6 = idN l := by rw [shortN, gbr_at (by omega) (by omega) (by omega), idN]
  have e7 : shortL l 6 = (l.drop 7).take (idN l) := by rw [shortL, e6, if_pos (by omega)]
  have e11 : shortN l (11 + idN l) = dataN l := by rw [shortN, gbr_at (by omega) (by omega) (by omega), dataN]
  have e12 : shortL l (11 + idN l) = (l.drop (12 + idN l)).take (dataN l) := by
    rw [shortL, e11, if_pos (by omega), show 11 + idN l + 1 = 12 + idN l by omega]
  rw [looseR, e6, e7, e12, parseR, gbr_at (by omega) (by omega) (by omega), gbr_at (by omega) (by omega) (by omega), gbr_at (by omega) (by omega) (by omega), gbr_at (by omega) (by omega) (by omega), List.drop_zero]

theorem loose_some {s : ByteArray} (h1 : (looseR (txI s)).ok = true) (h2 : (looseR (txI s)).put = txI s) : recOf s = some (looseR (txI s)) := recOf_iff.2 ⟨h1, h2⟩

theorem loose_none {s : ByteArray} (h : ¬ ((looseR (txI s)).ok = true ∧ (looseR (txI s)).put = txI s)) : recOf s = none := by
  cases hr : recOf s with
  | none => rfl
  | some r =>
    have hl := recOf_len (s := s) (by rw [hr]; exact Option.some_ne_none r)
    have e := loose_is (l := txI s) (by rw [txI_len]; omega)
    have hp := recOf_iff.1 hr
    have : recOf s = some (parseR (txI s)) := by
      rw [recOf] at hr ⊢
      split
      · rfl
      · rename_i hn
        rw [if_neg hn] at hr
        cases hr
    rw [hr] at this
    injection this with this
    exact absurd (by rw [e, ← this]; exact hp) h

theorem recOf_long {s : ByteArray} (h : 48 < s.size) : recOf s = none := by
  cases hr : recOf s with
  | none => rfl
  | some r =>
    have hl := recOf_len (s := s) (by rw [hr]; exact Option.some_ne_none r)
    omega

end Go.Proofs.YtiigdcpjelbdjaaGreatDoor

namespace Go.Proofs.YtiigdcpjelbdjaaGreatDoor
open Go.RowKit
set_option linter.unusedVariables false

theorem Seg.part {w : World} {b off len : Nat} {zs : List Int} (h : Seg w (some ⟨b, off, none⟩) len zs) (T n : Nat) (hT : T + n ≤ len) : Seg w (some ⟨b, off + T, none⟩) n ((zs.drop T).take n) := by
  have hl := h.1
  refine ⟨by rw [List.length_take, List.length_drop]; omega, fun x hx => h.2.1 x (List.mem_of_mem_drop (List.mem_of_mem_take hx)), ?_⟩
  rcases h.2.2 with h0 | ⟨b', off', e, hb, hc⟩
  · exact .inl (by omega)
  · simp only [Option.some.injEq, Addr.mk.injEq, and_true] at e
    obtain ⟨rfl, rfl⟩ := e
    refine .inr ⟨b, off + T, rfl, hb, fun i hi => ?_⟩
    rw [Nat.add_assoc, hc (T + i) (by omega)]
    rw [List.getD_eq_getElem?_getD, List.getD_eq_getElem?_getD, List.getElem?_take, if_pos hi, List.getElem?_drop]

theorem row_alloc {W : World} {b : Nat} {x : Obj} (h : W.heap[b]? = some x) (o : Obj) : (W.alloc o).heap[b]? = some x := by
  have hl := (Array.getElem?_eq_some_iff.1 h).1
  show (W.heap.push o)[b]? = _
  rw [Array.getElem?_push, if_neg (by omega)]
  exact h

theorem Seg.zero {w : World} (a : Option Addr) (zs : List Int) (T : Nat) : Seg w a 0 ((zs.drop T).take 0) := ⟨by simp, by simp, .inl rfl⟩

set_option maxHeartbeats 800000 in
theorem cut_no (a : Option Addr) (len cap n : Nat) (at_ : Int) (w : World) (hl : len ≤ 1099511627776) (hn : n ≤ 1099511627776) (ha : -9223372036854775808 ≤ at_ ∧ at_ ≤ 9223372036854775807) (h : ¬ (0 ≤ at_ ∧ at_ + n ≤ (len : Int))) :
    Calls Tryz.prog 107 #[.slice a len cap, .int .i64 at_, .int .i64 n] w fun e w' => e = .returned (.tuple #[.slice none 0 0, .bool false]) ∧ w' = w := by
  obtain ⟨ha0, ha1⟩ := ha
  by_cases h0 : at_ < 0
  · clear h
    go_enter Tryz.func107, Tryz.ntmps107
    go_wp2
    go_ret2
    exact ⟨rfl, rfl⟩
  · have h1 : (len : Int) - n < at_ := by omega
    clear h
    go_enter Tryz.func107, Tryz.ntmps107
    go_wp2
    go_ret2
    exact ⟨rfl, rfl⟩

set_option maxHeartbeats 800000 in
theorem cut_yes (a : Option Addr) (len cap n T : Nat) (zs : List Int) (w : World) (hs : Seg w a len zs) (hc : len ≤ cap) (hl : len ≤ 1099511627776) (h : T + n ≤ len) :
    Calls Tryz.prog 107 #[.slice a len cap, .int .i64 T, .int .i64 n] w fun e w' => ∃ a', e = .returned (.tuple #[.slice a' n n, .bool true]) ∧ Seg w a' n ((zs.drop T).take n) ∧ w' = w := by
  have HS : Hid (Seg w a len zs) := hs
  clear hs
  have h1 : ¬ (len : Int) - n < T := by omega
  by_cases h0 : n = 0
  · subst h0
    cases a with
    | none =>
      have hl0 : len = 0 := by
        rcases HS.out.2.2 with h | ⟨b, off, e, _⟩
        · exact h
        · cases e
      subst hl0
      obtain rfl : T = 0 := by omega
      go_enter Tryz.func107, Tryz.ntmps107
      go_wp2
      go_ret2
      exact ⟨_, rfl, Seg.zero none zs 0, rfl⟩
    | some ad =>
      go_enter Tryz.func107, Tryz.ntmps107
      go_wp2
      go_ret2
      exact ⟨_, rfl, Seg.zero (some ad) zs T, rfl⟩
  · obtain ⟨b, off, rfl⟩ : ∃ b off, a = some ⟨b, off, none⟩ := by
      rcases HS.out.2.2 with h | ⟨b, off, e, _⟩
      · omega
      · exact ⟨b, off, e⟩
    go_enter Tryz.func107, Tryz.ntmps107
    go_wp2
    go_ret2
    exact ⟨_, rfl, HS.out.part T n h, rfl⟩

end Go.Proofs.YtiigdcpjelbdjaaGreatDoor
