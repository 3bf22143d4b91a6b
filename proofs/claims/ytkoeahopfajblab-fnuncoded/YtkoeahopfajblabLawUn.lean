/- The law of what has no text: drawn bytes that have a text are just its code. -/
import Derived.Test.YtkoeahopfajblabDrawUn
import Derived.Test.YtkoeahopfajblabHimUn
import Derived.Test.YtkoeahopfajblabHufUn
import Derived.Test.YtkoeahopfajblabHimHuff
import Derived.Test.YtkoeahopfajblabLawBig
namespace Go.Proofs.Ytkoeahopfajblab
open Go.RowKit
set_option linter.unusedVariables false

set_option maxHeartbeats 400000 in
theorem sameBytes_same (a b : Option Addr) (len ca cb : Nat) (xs : List Int) (w : World) (hx : Seg w a len xs) (hy : Seg w b len xs) (hla : len ≤ 1099511627776) :
    Calls Try.prog 13 #[.slice a len ca, .slice b len cb] w fun e w' => e = .returned (.bool true) ∧ ∃ n, w' = w.drewN n := by
  have HX : Hid (Seg w a len xs) := hx
  have HY : Hid (Seg w b len xs) := hy
  clear hx hy
  have hne : ((len : Int) != (len : Int)) = false := by simp
  go_enter Try.func13, Try.ntmps13
  go_wp2
  go_loopw [5] (fun i wr => ∃ k : Nat, k ≤ len ∧ i = .int .i64 k ∧ Hid (∃ n, wr = w.drewN n)) (fun i _ => len - (intOf i).toNat)
  case atStart => exact ⟨0, Nat.zero_le _, rfl, ⟨0, rfl⟩⟩
  case round =>
    obtain ⟨k, hk, rfl, HW⟩ := hrel
    by_cases hlt : k < len
    · obtain ⟨ba, oa, rfl, hba, hca⟩ : ∃ b off, a = some ⟨b, off, none⟩ ∧ b < w.heap.size ∧ ∀ i, i < len → w.cell? ⟨b, off + i, none⟩ = some (.int .u8 (xs.getD i 0)) := by
        rcases HX.out.2.2 with h | h
        · omega
        · exact h
      obtain ⟨bb, ob, rfl, hbb, hcb⟩ : ∃ b' off, b = some ⟨b', off, none⟩ ∧ b' < w.heap.size ∧ ∀ i, i < len → w.cell? ⟨b', off + i, none⟩ = some (.int .u8 (xs.getD i 0)) := by
        rcases HY.out.2.2 with h | h
        · omega
        · exact h
      have ha : wr.cell? ⟨ba, oa + k, none⟩ = some (.int .u8 (xs.getD k 0)) := by obtain ⟨n, rfl⟩ := HW; exact hca k hlt
      have hb : wr.cell? ⟨bb, ob + k, none⟩ = some (.int .u8 (xs.getD k 0)) := by obtain ⟨n, rfl⟩ := HW; exact hcb k hlt
      clear hca hcb
      have hki : (k : Int) < (len : Int) := by omega
      have hk0 : (0 : Int) ≤ (k : Int) := by omega
      go_wp2
      go_quiet (fail)
      go_wp2
      go_roundw
      case rel =>
        refine ⟨k + 1, by omega, by go_num, ?_⟩
        obtain ⟨n, rfl⟩ := HW.out
        exact ⟨_, World.drewN_drewN _ _ _⟩
      case measure => simp [intOf]; omega
    · go_wp2
      go_ret
      exact ⟨rfl, HW.out⟩


/-- A text has no more bytes than its code has bits. -/
theorem HuffOf.small {t : ByteArray} {o : List Int} (h : HuffOf t.data.toList o) : t.size ≤ 8 * o.length := by
  have h1 := h.len
  have h2 : t.data.toList.length ≤ (textBits t.data.toList).length := text_long _
  rw [str_len] at h2
  unfold bitLen at h1
  omega

set_option maxRecDepth 10000 in
set_option maxHeartbeats 800000 in
theorem lawUn_any (a : Option Addr) (len cap : Nat) (zs : List Int) (w : World) (hm : len ≤ maxLen) (hs : Seg w a len zs) :
    Calls Try.prog 4 #[.slice a len cap] w fun e w' => e = .returned (.bool true) ∧ Below w.heap.size w w' := by
  have HS : Hid (Seg w a len zs) := hs
  clear hs
  by_cases hbig : 1048576 < len
  · have hd : decide ((1048576 : Int) < (len : Int)) = true := by simp; omega
    go_enter Try.func4, Try.ntmps4
    go_wp2_with fail
    refine (big_any a len cap _ hm).mono ?_
    rintro e w1 ⟨rfl, rfl⟩
    rw [hd]
    go_wp2_with fail
    go_ret
    exact ⟨rfl, Below.refl _ _⟩
  · have hd : decide ((1048576 : Int) < (len : Int)) = false := by simp; omega
    have hl : len ≤ 1099511627776 := by omega
    go_enter Try.func4, Try.ntmps4
    go_wp2_with fail
    refine (big_any a len cap _ hm).mono ?_
    rintro e w1 ⟨rfl, rfl⟩
    rw [hd]
    clear hd hbig hm
    go_wp2_with fail
    refine (drawUn_any a len cap zs _ HS.out hl).mono ?_
    rintro e w2 ⟨b, n, cp, ys, rfl, hn, hs2, hb2⟩
    have HS2 : Hid (Seg w2 b n ys) := hs2
    have HB2 : Hid (Below w1.heap.size w1 w2) := hb2
    clear hs2 hb2
    go_wp2_with fail
    refine (implUn_any _ _ _ _ _ HS2.out (by omega)).mono ?_
    rintro e w3 ⟨hres, hb3⟩
    have HS3 : Hid (Seg w3 b n ys) := HS2.out.below hb3
    have HB3 : Hid (Below w1.heap.size w1 w3) := HB2.out.trans (hb3.mono HB2.out.size)
    clear hb3 HS2 HB2
    rcases hres with ⟨t, rfl, ht⟩ | ⟨rfl, hno⟩
    · have HT : Hid (HuffOf t.data.toList ys) := ht
      have htl : t.size ≤ 1099511627776 := by
        have h1 := ht.small
        have h2 := HS3.out.1
        omega
      clear ht
      go_wp2_with fail
      refine (specUn_any _ _ _ _ _ HS3.out (by omega)).mono ?_
      rintro e w4 ⟨hres, hb4⟩
      obtain ⟨t', rfl⟩ : ∃ t' : ByteArray, e = .returned (.tuple #[.string t', .bool true]) := by
        rcases hres with ⟨t', rfl, _⟩ | ⟨_, hno⟩
        · exact ⟨t', rfl⟩
        · exact absurd HT.out (hno _)
      have HS4 : Hid (Seg w4 b n ys) := HS3.out.below hb4
      have HB4 : Hid (Below w1.heap.size w1 w4) := HB3.out.trans (hb4.mono HB3.out.size)
      clear hres hb4 HS3 HB3
      go_wp2_with fail
      refine (implHuff_any t _ htl).mono ?_
      rintro e w5 ⟨o, oa, oc, rfl, ow5, hf5, hb5⟩
      obtain rfl : o = ys := hf5.one HT.out
      have hol : o.length = n := HS4.out.1
      rw [hol] at ow5 ⊢
      have HO5 : Hid (Seg w5 oa n o) := ow5.seg
      have HS5 : Hid (Seg w5 b n o) := HS4.out.below hb5
      have HB5 : Hid (Below w1.heap.size w1 w5) := HB4.out.trans (hb5.mono HB4.out.size)
      clear ow5 hf5 hb5 HS4 HB4 hol
      go_wp2_with fail
      refine (sameBytes_same _ _ _ _ _ _ _ HO5.out HS5.out (by omega)).mono ?_
      rintro e w6 ⟨rfl, n6, rfl⟩
      go_wp2_with fail
      go_ret
      exact ⟨rfl, below_drewN HB5.out _⟩
    · have HNo : Hid (∀ l, ¬ HuffOf l ys) := hno
      clear hno
      go_wp2_with fail
      refine (specUn_any _ _ _ _ _ HS3.out (by omega)).mono ?_
      rintro e w4 ⟨hres, hb4⟩
      obtain rfl : e = .returned (.tuple #[.string ⟨#[]⟩, .bool false]) := by
        rcases hres with ⟨t', rfl, h'⟩ | ⟨e, _⟩
        · exact absurd h' (HNo.out _)
        · exact e
      have HB4 : Hid (Below w1.heap.size w1 w4) := HB3.out.trans (hb4.mono HB3.out.size)
      clear hres hb4 HS3 HB3
      go_wp2_with fail
      go_ret
      exact ⟨rfl, HB4.out⟩

end Go.Proofs.Ytkoeahopfajblab
