/- What the specification's RecOk answers. What GetRec answers of a text; no program in it. What is answered for a number of bytes that may not be there. No program in it. What the specification's GetBig answers: the number of the bytes there and true, or 0 and false; nothing is written. For lists of at most 2^40 bytes. -/
import Derived.Test.YtlkgopoicpnacaaGreatDoorM03
import Derived.Test.YtlkgopoicpnacaaGreatDoorM12
import Derived.Test.YtlkgopoicpnacaaGreatDoorM04
import Derived.Deep.CutBlock
import Derived.Test.YtlkgopoicpnacaaGreatDoorM01
namespace Go.Proofs.YtlkgopoicpnacaaGreatDoor
open Go.RowKit
set_option linter.unusedVariables false

set_option maxRecDepth 10000 in
set_option maxHeartbeats 1600000 in
theorem specRok_any (e q k : Int) (id : ByteArray) (n : Int) (a : Option Addr) (d ca : Nat) (w : World) (hi : id.size ≤ maxLen) (hd : d ≤ 1099511627776) :
    Calls Tryz.prog 118 #[.agg #[.int .i64 e, .int .i64 q, .int .i64 k, .string id, .int .i64 n, .slice a d ca]] w fun r w' => r = .returned (.bool (okRec e q k id n d)) ∧ Below w.heap.size w w' := by
  have hmm : maxLen < 9223372036854775808 := by decide
  obtain ⟨w0, hw0⟩ : ∃ w0, w.alloc (.cells #[.int .i64 e, .int .i64 q, .int .i64 k, .string id, .int .i64 n, .slice a d ca] 107) = w0 := ⟨_, rfl⟩
  have HE : Hid (w.alloc (.cells #[.int .i64 e, .int .i64 q, .int .i64 k, .string id, .int .i64 n, .slice a d ca] 107) = w0) := hw0
  have q0 : BoxN w0 w.heap.size 107 [.int .i64 e, .int .i64 q, .int .i64 k, .string id, .int .i64 n, .slice a d ca] := by rw [← hw0]; exact BoxN.new _ _ _
  have HB : Hid (Below w.heap.size w w0) := by show Below _ _ _; rw [← hw0]; exact (Below.refl _ _).alloc (Nat.le_refl _) _
  have c0 := q0.cell 0 rfl
  have c1 := q0.cell 1 rfl
  have c2 := q0.cell 2 rfl
  have c3 := q0.cell 3 rfl
  have c4 := q0.cell 4 rfl
  have c5 := q0.cell 5 rfl
  clear hw0 q0
  go_enter Tryz.func118, Tryz.ntmps118
  go_upto_region 1 with fail
  rw [HE.out]
  clear HE
  go_wp2_with fail
  refine (l1In_any e 0 10000 _).mono ?_
  rintro r w1 ⟨rfl, rfl⟩
  by_cases h1 : 0 ≤ e ∧ e ≤ 10000
  case neg =>
    rw [decide_eq_false h1]
    have HF : Hid (okRec e q k id n d = false) := by show _ = _; rw [okRec, decide_eq_false h1]; rfl
    go_wp2_with fail
    go_ret
    exact ⟨ret_bool HF.out.symm, HB.out⟩
  rw [decide_eq_true h1]
  go_wp2_with fail
  refine (l1In_any q 0 199 _).mono ?_
  rintro r w1 ⟨rfl, rfl⟩
  by_cases h2 : 0 ≤ q ∧ q ≤ 199
  case neg =>
    rw [decide_eq_false h2]
    have HF : Hid (okRec e q k id n d = false) := by show _ = _; rw [okRec, decide_eq_false h2, Bool.and_false]; rfl
    go_wp2_with fail
    go_ret
    exact ⟨ret_bool HF.out.symm, HB.out⟩
  rw [decide_eq_true h2]
  go_wp2_with fail
  refine (specId_any id _ (by omega)).mono ?_
  rintro r w1 ⟨rfl, rfl⟩
  cases h3 : idB id.data.toList
  · have HF : Hid (okRec e q k id n d = false) := by show _ = _; rw [okRec, h3, Bool.and_false]; rfl
    clear h3
    go_wp2_with fail
    go_ret
    exact ⟨ret_bool HF.out.symm, HB.out⟩
  have HK : Hid (okRec e q k id n d = kindB k n d) := by show _ = _; rw [okRec, decide_eq_true h1, decide_eq_true h2, h3]; rfl
  clear h1 h2 h3
  by_cases k1 : k = 1
  · subst k1
    have HK1 : Hid (okRec e q 1 id n d = (decide (0 ≤ n ∧ n ≤ 1000000000) && decide (d = 0))) := HK.out
    clear HK
    go_wp2_with fail
    refine (l1In_any n 0 1000000000 _).mono ?_
    rintro r w1 ⟨rfl, rfl⟩
    by_cases h4 : 0 ≤ n ∧ n ≤ 1000000000
    · rw [decide_eq_true h4] at HK1 ⊢
      by_cases h5 : d = 0
      · subst h5
        go_wp2_with fail
        go_ret
        exact ⟨by rw [HK1.out]; rfl, HB.out⟩
      · have HF : Hid (okRec e q 1 id n d = false) := by show _ = _; rw [HK1.out, decide_eq_false h5]; rfl
        have h5b : ((d : Int) == 0) = false := by rw [beq_eq_false_iff_ne]; omega
        clear HK1
        go_wp2_with fail
        go_ret
        exact ⟨by rw [HF.out]; rfl, HB.out⟩
    · have HF : Hid (okRec e q 1 id n d = false) := by show _ = _; rw [HK1.out, decide_eq_false h4]; rfl
      rw [decide_eq_false h4]
      clear HK1
      go_wp2_with fail
      go_ret
      exact ⟨by rw [HF.out]; rfl, HB.out⟩
  have k1b : (k == 1) = false := by rw [beq_eq_false_iff_ne]; exact k1
  by_cases k2 : k = 2
  · subst k2
    have HK1 : Hid (okRec e q 2 id n d = (decide (0 ≤ n ∧ n ≤ 1000000000) && decide (1 ≤ d ∧ d ≤ 24))) := HK.out
    clear HK k1
    go_wp2_with fail
    refine (l1In_any n 0 1000000000 _).mono ?_
    rintro r w1 ⟨rfl, rfl⟩
    by_cases h4 : 0 ≤ n ∧ n ≤ 1000000000
    · rw [decide_eq_true h4] at HK1 ⊢
      have HF : Hid (okRec e q 2 id n d = decide ((1 : Int) ≤ (d : Int) ∧ (d : Int) ≤ 24)) := by
        show _ = _
        rw [HK1.out, Bool.true_and, decide_eq_decide]
        omega
      clear HK1
      go_wp2_with fail
      refine (l1In_any (d : Int) 1 24 _).mono ?_
      rintro r w1 ⟨rfl, rfl⟩
      by_cases h5 : (1 : Int) ≤ (d : Int) ∧ (d : Int) ≤ 24
      · rw [decide_eq_true h5] at HF ⊢
        go_wp2_with fail
        go_ret
        exact ⟨by rw [HF.out]; rfl, HB.out⟩
      · rw [decide_eq_false h5] at HF ⊢
        go_wp2_with fail
        go_ret
        exact ⟨by rw [HF.out]; rfl, HB.out⟩
    · have HF : Hid (okRec e q 2 id n d = false) := by show _ = _; rw [HK1.out, decide_eq_false h4]; rfl
      rw [decide_eq_false h4]
      clear HK1
      go_wp2_with fail
      go_ret
      exact ⟨by rw [HF.out]; rfl, HB.out⟩
  have k2b : (k == 2) = false := by rw [beq_eq_false_iff_ne]; exact k2
  by_cases k34 : k = 3 ∨ k = 4
  · have HK1 : Hid (okRec e q k id n d = (decide (n = 0) && decide (d = 0))) := by show _ = _; rw [HK.out, kindB, if_neg k1, if_neg k2, if_pos k34]
    clear HK k1 k2
    by_cases h4 : n = 0
    · subst h4
      by_cases h5 : d = 0
      · subst h5
        rcases k34 with rfl | rfl
        all_goals
          go_wp2_with fail
          go_ret
          exact ⟨by rw [HK1.out]; rfl, HB.out⟩
      · have HF : Hid (okRec e q k id 0 d = false) := by show _ = _; rw [HK1.out, decide_eq_false h5]; rfl
        have h5b : ((d : Int) == 0) = false := by rw [beq_eq_false_iff_ne]; omega
        clear HK1
        rcases k34 with rfl | rfl
        all_goals
          go_wp2_with fail
          go_ret
          exact ⟨by rw [HF.out]; rfl, HB.out⟩
    · have HF : Hid (okRec e q k id n d = false) := by show _ = _; rw [HK1.out, decide_eq_false h4]; rfl
      have h4b : (n == 0) = false := by rw [beq_eq_false_iff_ne]; exact h4
      clear HK1
      rcases k34 with rfl | rfl
      all_goals
        go_wp2_with fail
        go_ret
        exact ⟨by rw [HF.out]; rfl, HB.out⟩
  · have HF : Hid (okRec e q k id n d = false) := by show _ = _; rw [HK.out, kindB, if_neg k1, if_neg k2, if_neg k34]
    have k3b : (k == 3) = false := by rw [beq_eq_false_iff_ne]; omega
    have k4b : (k == 4) = false := by rw [beq_eq_false_iff_ne]; omega
    clear HK k1 k2 k34
    go_wp2_with fail
    go_ret
    exact ⟨by rw [HF.out]; rfl, HB.out⟩

end Go.Proofs.YtlkgopoicpnacaaGreatDoor

namespace Go.Proofs.YtlkgopoicpnacaaGreatDoor
open Go.RowKit
set_option linter.unusedVariables false

/-- What GetRec answers. -/
def GotR (base : Nat) (s : ByteArray) (v : Value) (w' : World) : Prop :=
  (recOf s = none ∧ v = .tuple #[.agg #[.int .i64 0, .int .i64 0, .int .i64 0, .string ⟨#[]⟩, .int .i64 0, .slice none 0 0], .bool false]) ∨
  ∃ r A C, recOf s = some r ∧ v = .tuple #[.agg #[.int .i64 r.e, .int .i64 r.q, .int .i64 r.k, .string r.id, .int .i64 r.n, .slice A r.zs.length C], .bool true] ∧ Owns w' base A r.zs.length C r.zs

/-- The record that is answered, and whether there is one. -/
def gotV (s : ByteArray) : R × Bool := match recOf s with
  | none => (⟨0, 0, 0, ⟨#[]⟩, 0, []⟩, false)
  | some r => (r, true)

theorem GotR.one {base : Nat} {s : ByteArray} {v : Value} {w' : World} (h : GotR base s v w') : ∃ A C, v = .tuple #[.agg #[.int .i64 (gotV s).1.e, .int .i64 (gotV s).1.q, .int .i64 (gotV s).1.k, .string (gotV s).1.id, .int .i64 (gotV s).1.n, .slice A (gotV s).1.zs.length C], .bool (gotV s).2] ∧ Owns w' base A (gotV s).1.zs.length C (gotV s).1.zs := by
  rcases h with ⟨h1, rfl⟩ | ⟨r, A, C, h1, rfl, ho⟩
  · rw [gotV, h1]
    exact ⟨none, 0, rfl, ⟨⟨rfl, .inl ⟨rfl, rfl⟩⟩, by simp⟩⟩
  · rw [gotV, h1]
    exact ⟨A, C, rfl, ho⟩

theorem gotV_len (s : ByteArray) : (gotV s).1.zs.length ≤ 24 := by
  cases h : recOf s with
  | none => rw [gotV, h]; exact Nat.zero_le _
  | some r =>
    rw [gotV, h]
    exact (okRec_iff (recOf_iff.1 h).1).2.2.2.2.2

/-- A record in a variable of the law's, its bytes in memory of its own from lo on and ahead of it. -/
def RB (W : World) (b lo : Nat) (r : R) (A : Option Addr) (d C : Nat) (zs : List Int) : Prop :=
  BoxN W b 107 [.int .i64 r.e, .int .i64 r.q, .int .i64 r.k, .string r.id, .int .i64 r.n, .slice A d C] ∧ Owns W lo A d C zs ∧ (∀ q, A.map (·.block) = some q → q < b) ∧ lo ≤ b

section
variable {W W' : World} {b lo d C : Nat} {r : R} {A : Option Addr} {zs : List Int}

theorem RB.stays (h : RB W b lo r A d C zs) (hb : Below W.heap.size W W') : RB W' b lo r A d C zs := ⟨h.1.stays hb, h.2.1.below hb, h.2.2⟩

theorem RB.new (r : R) (ho : Owns W lo A d C zs) (hlo : lo ≤ W.heap.size) : RB (W.alloc (.cells #[.int .i64 r.e, .int .i64 r.q, .int .i64 r.k, .string r.id, .int .i64 r.n, .slice A d C] 107)) W.heap.size lo r A d C zs :=
  ⟨BoxN.new _ _ _, ho.below ((Below.refl _ _).alloc (Nat.le_refl _) _), fun q e => (ho.lt q e).2, hlo⟩

theorem RB.grown {x : Option Nat} (h : RB W b lo r A d C zs) (hg : W.grownBy W' x) (hx : ∀ q, x = some q → q < lo ∨ b < q) : RB W' b lo r A d C zs := by
  refine ⟨h.1.grown hg (fun e => by have := hx _ e; have := h.2.2.2; omega), h.2.1.grown hg (fun q e e2 => ?_), h.2.2⟩
  have h1 := hx q e
  have h2 := (h.2.1.lt q e2).1
  have h3 := h.2.2.1 q e2
  omega

theorem RB.marked {zs' : List Int} (h : RB W b lo r A d C zs) (ho : Owns W' lo A d C zs') (hg : W.grownBy W' (A.map (·.block))) : RB W' b lo r A d C zs' :=
  ⟨h.1.grown hg (fun e => by have := h.2.2.1 _ e; omega), ho, h.2.2⟩
end

end Go.Proofs.YtlkgopoicpnacaaGreatDoor

namespace Go.Proofs.YtlkgopoicpnacaaGreatDoor
open Go.RowKit

/-- What GetBig answers. -/
def gbr (zs : List Int) (at_ k : Int) : Int × Bool :=
  if 1 ≤ k ∧ k ≤ 7 ∧ 0 ≤ at_ ∧ at_ + k ≤ (zs.length : Int) then (gb ((zs.drop at_.toNat).take k.toNat), true) else (0, false)

end Go.Proofs.YtlkgopoicpnacaaGreatDoor

namespace Go.Proofs.YtlkgopoicpnacaaGreatDoor
open Go.RowKit

set_option maxHeartbeats 400000 in
theorem specGet_yes (a : Option Addr) (len cap at_ k : Nat) (zs : List Int) (w : World) (hs : Seg w a len zs) (hl : len ≤ 1099511627776) (h1 : 1 ≤ k) (h7 : k ≤ 7) (hat : at_ + k ≤ len) :
    Calls Tryz.prog 117 #[.slice a len cap, .int .i64 at_, .int .i64 k] w fun e w' => e = .returned (.tuple #[.int .i64 (gb ((zs.drop at_).take k)), .bool true]) ∧ w' = w := by
  have hl0 : 0 < len := by omega
  obtain ⟨b, off, rfl, hb, hc⟩ : ∃ b off, a = some ⟨b, off, none⟩ ∧ b < w.heap.size ∧ ∀ i, i < len → w.cell? ⟨b, off + i, none⟩ = some (.int .u8 (zs.getD i 0)) := by
    rcases hs.2.2 with h | h
    · omega
    · exact h
  have HS : Hid (Seg w (some ⟨b, off, none⟩) len zs) := hs
  have hC : Hid (∀ i, i < len → w.cell? ⟨b, off + i, none⟩ = some (.int .u8 (zs.getD i 0))) := hc
  clear hc hs
  go_enter Tryz.func117, Tryz.ntmps117
  go_wp2
  go_loop [8, 9] (fun n i => ∃ j : Nat, j ≤ k ∧ i = .int .i64 j ∧ n = .int .i64 (gb ((zs.drop at_).take j))) (fun _ i => k - (intOf i).toNat)
  case atStart => exact ⟨0, Nat.zero_le _, rfl, rfl⟩
  case round =>
    obtain ⟨j, hj, rfl, rfl⟩ := hrel
    by_cases hlt : j < k
    · have hcell : w.cell? ⟨b, off + (at_ + j), none⟩ = some (.int .u8 (zs.getD (at_ + j) 0)) := hC.out (at_ + j) (by omega)
      have hx := HS.out.range (at_ + j)
      have hm := gb_part_bound zs at_ j HS.out.2.1 (by omega)
      have hsn : Hid (gb ((zs.drop at_).take (j + 1)) = gb ((zs.drop at_).take j) * 256 + zs.getD (at_ + j) 0) := by
        show gb _ = _
        rw [drop_take_snoc zs at_ j (by have := HS.out.1; omega), gb_snoc]
      have hmm := gb_part_small zs at_ j HS.out.2.1 (by omega)
      generalize gb ((zs.drop at_).take j) = m at *
      generalize zs.getD (at_ + j) 0 = x at *
      obtain ⟨hx0, hx1⟩ := hx
      obtain ⟨hm0, hm1⟩ := hm
      have hor := join8 m x hm0 (by omega) hx0 hx1
      go_wp2
      go_round
      case rel => exact ⟨j + 1, by omega, by go_num, by rw [hsn.out]⟩
      case measure => simp [intOf]; omega
    · go_wp2
      go_ret2
      have : j = k := by omega
      subst this
      exact ⟨rfl, rfl⟩

set_option maxHeartbeats 400000 in
theorem specGet_no (a : Option Addr) (len cap : Nat) (at_ k : Int) (w : World) (hl : len ≤ 1099511627776) (ha : -9223372036854775808 ≤ at_ ∧ at_ ≤ 9223372036854775807) (hk : -9223372036854775808 ≤ k ∧ k ≤ 9223372036854775807)
    (h : ¬ (1 ≤ k ∧ k ≤ 7 ∧ 0 ≤ at_ ∧ at_ + k ≤ (len : Int))) :
    Calls Tryz.prog 117 #[.slice a len cap, .int .i64 at_, .int .i64 k] w fun e w' => e = .returned (.tuple #[.int .i64 0, .bool false]) ∧ w' = w := by
  obtain ⟨ha0, ha1⟩ := ha
  obtain ⟨hk0, hk1⟩ := hk
  have H : Hid (¬ (1 ≤ k ∧ k ≤ 7 ∧ 0 ≤ at_ ∧ at_ + k ≤ (len : Int))) := h
  clear h
  by_cases h1 : 1 ≤ k
  · by_cases h7 : k ≤ 7
    · by_cases h0 : 0 ≤ at_
      · have h2 : (len : Int) < at_ + k := by have := H.out; omega
        go_enter Tryz.func117, Tryz.ntmps117
        go_wp2
        go_ret2
        exact ⟨rfl, rfl⟩
      · go_enter Tryz.func117, Tryz.ntmps117
        go_wp2
        go_ret2
        exact ⟨rfl, rfl⟩
    · go_enter Tryz.func117, Tryz.ntmps117
      go_wp2
      go_ret2
      exact ⟨rfl, rfl⟩
  · go_enter Tryz.func117, Tryz.ntmps117
    go_wp2
    go_ret2
    exact ⟨rfl, rfl⟩

theorem specGet_any (a : Option Addr) (len cap : Nat) (at_ k : Int) (zs : List Int) (w : World) (hs : Seg w a len zs) (hl : len ≤ 1099511627776) (ha : -9223372036854775808 ≤ at_ ∧ at_ ≤ 9223372036854775807) (hk : -9223372036854775808 ≤ k ∧ k ≤ 9223372036854775807) :
    Calls Tryz.prog 117 #[.slice a len cap, .int .i64 at_, .int .i64 k] w fun e w' => e = .returned (.tuple #[.int .i64 (gbr zs at_ k).1, .bool (gbr zs at_ k).2]) ∧ w' = w := by
  have hz := hs.1
  by_cases h : 1 ≤ k ∧ k ≤ 7 ∧ 0 ≤ at_ ∧ at_ + k ≤ (zs.length : Int)
  · obtain ⟨K, rfl⟩ := Int.eq_ofNat_of_zero_le (show 0 ≤ k by omega)
    obtain ⟨T, rfl⟩ := Int.eq_ofNat_of_zero_le h.2.2.1
    rw [gbr, if_pos h, Int.toNat_natCast, Int.toNat_natCast]
    exact specGet_yes a len cap T K zs w hs hl (by omega) (by omega) (by omega)
  · rw [gbr, if_neg h]
    exact specGet_no a len cap at_ k w hl ha hk (by omega)

end Go.Proofs.YtlkgopoicpnacaaGreatDoor
