/- What GetRec answers of a text; no program in it. What both programs' GetBig answer: the number of the bytes there and true, or 0 and false; nothing is written. For lists of at most 2^40 bytes. -/
import Derived.Test.YtikefigacggohatDoorM05
import Derived.Test.YtikefigacggohatDoorM05
import Derived.Test.YtikefigacggohatDoorM01
import Derived.Test.YtikefigacggohatDoorM01
namespace Go.Proofs.YtikefigacggohatDoor
open Go.RowKit
set_option linter.unusedVariables false

/-- What GetRec answers. -/
def GotR (base : Nat) (s : ByteArray) (v : Value) (w' : World) : Prop :=
  (recOf s = none ∧ v = .tuple #[.agg #[.int .i64 0, .int .i64 0, .int .i64 0, .string ⟨#[]⟩, .int .i64 0, .slice none 0 0], .bool false]) ∨
  ∃ r A C, recOf s = some r ∧ v = .tuple #[.agg #[.int .i64 r.e, .int .i64 r.q, .int .i64 r.k, .string r.id, .int .i64 r.n, .slice A r.zs.length C], .bool true] ∧ Owns w' base A r.zs.length C r.zs

/-- The record that is answered, and whether there is one. -/
def gotV (s : ByteArray) : R × Bool := match recOf s with
  | none => (⟨0, 0, 0, ⟨#[]⟩, 0, []⟩, false)
  | some r => (r, true)

theorem GotR.one {base : Nat} {s : ByteArray} {v : Value} {w' : World} (h : GotR base s v w') : ∃ A C, v = .tuple #[.agg #[.int .i64 (gotV s).1.e, .int .i64 (gotV s).1.q, .int .i64 (gotV s).1.k, .string (gotV s).1.id, .int .i64 (gotV s).1.n, .slice A (gotV s).1.zs.length C], .bool (gotV s).2] ∧ Owns w' base A (gotV s).1.zs.length C (gotV s).1.zs := by
  rcases h with ⟨h1, rfl⟩ | ⟨r, A, C, h1, rfl, ho⟩
  · rw [gotV, h1]
    exact ⟨none, 0, rfl, ⟨⟨rfl, .inl ⟨rfl, rfl⟩⟩, by simp⟩⟩
  · rw [gotV, h1]
    exact ⟨A, C, rfl, ho⟩

theorem gotV_len (s : ByteArray) : (gotV s).1.zs.length ≤ 24 := by
  cases h : recOf s with
  | none => rw [gotV, h]; exact Nat.zero_le _
  | some r =>
    rw [gotV, h]
    exact (okRec_iff (recOf_iff.1 h).1).2.2.2.2.2

/-- A record in a variable of the law's, its bytes in memory of its own from lo on and ahead of it. -/
def RB (W : World) (b lo : Nat) (r : R) (A : Option Addr) (d C : Nat) (zs : List Int) : Prop :=
  BoxN W b 34 [.int .i64 r.e, .int .i64 r.q, .int .i64 r.k, .string r.id, .int .i64 r.n, .slice A d C] ∧ Owns W lo A d C zs ∧ (∀ q, A.map (·.block) = some q → q < b) ∧ lo ≤ b

section
variable {W W' : World} {b lo d C : Nat} {r : R} {A : Option Addr} {zs : List Int}

theorem RB.stays (h : RB W b lo r A d C zs) (hb : Below W.heap.size W W') : RB W' b lo r A d C zs := ⟨h.1.stays hb, h.2.1.below hb, h.2.2⟩

theorem RB.new (r : R) (ho : Owns W lo A d C zs) (hlo : lo ≤ W.heap.size) : RB (W.alloc (.cells #[.int .i64 r.e, .int .i64 r.q, .int .i64 r.k, .string r.id, .int .i64 r.n, .slice A d C] 34)) W.heap.size lo r A d C zs :=
  ⟨BoxN.new _ _ _, ho.below ((Below.refl _ _).alloc (Nat.le_refl _) _), fun q e => (ho.lt q e).2, hlo⟩

theorem RB.grown {x : Option Nat} (h : RB W b lo r A d C zs) (hg : W.grownBy W' x) (hx : ∀ q, x = some q → q < lo ∨ b < q) : RB W' b lo r A d C zs := by
  refine ⟨h.1.grown hg (fun e => by have := hx _ e; have := h.2.2.2; omega), h.2.1.grown hg (fun q e e2 => ?_), h.2.2⟩
  have h1 := hx q e
  have h2 := (h.2.1.lt q e2).1
  have h3 := h.2.2.1 q e2
  omega

theorem RB.marked {zs' : List Int} (h : RB W b lo r A d C zs) (ho : Owns W' lo A d C zs') (hg : W.grownBy W' (A.map (·.block))) : RB W' b lo r A d C zs' :=
  ⟨h.1.grown hg (fun e => by have := h.2.2.1 _ e; omega), ho, h.2.2⟩
end

end Go.Proofs.YtikefigacggohatDoor

namespace Go.Proofs.YtikefigacggohatDoor
open Go.RowKit

set_option maxHeartbeats 400000 in
theorem implGet_yes (a : Option Addr) (len cap at_ k : Nat) (zs : List Int) (w : World) (hs : Seg w a len zs) (hcap : len ≤ cap) (hl : len ≤ 1099511627776) (h1 : 1 ≤ k) (h7 : k ≤ 7) (hat : at_ + k ≤ len) :
    Calls Tryd.prog 25 #[.slice a len cap, .int .i64 at_, .int .i64 k] w fun e w' => e = .returned (.tuple #[.int .i64 (gb ((zs.drop at_).take k)), .bool true]) ∧ w' = w := by
  have hl0 : 0 < len := by omega
  obtain ⟨b, off, rfl, hb, hc⟩ : ∃ b off, a = some ⟨b, off, none⟩ ∧ b < w.heap.size ∧ ∀ i, i < len → w.cell? ⟨b, off + i, none⟩ = some (.int .u8 (zs.getD i 0)) := by
    rcases hs.2.2 with h | h
    · omega
    · exact h
  have HS : Hid (Seg w (some ⟨b, off, none⟩) len zs) := hs
  have hC : Hid (∀ i, i < len → w.cell? ⟨b, off + i, none⟩ = some (.int .u8 (zs.getD i 0))) := hc
  clear hc hs
  go_enter Tryd.func25, Tryd.ntmps25
  go_wp2
  go_loop [8, 34] (fun n i => ∃ j : Nat, j ≤ k ∧ i = .int .i64 j ∧ n = .int .i64 (gb ((zs.drop at_).take j))) (fun _ i => k - (intOf i).toNat)
  case atStart => exact ⟨0, Nat.zero_le _, rfl, rfl⟩
  case round =>
    obtain ⟨j, hj, rfl, rfl⟩ := hrel
    by_cases hlt : j < k
    · have hcell : w.cell? ⟨b, off + at_ + j, none⟩ = some (.int .u8 (zs.getD (at_ + j) 0)) := by rw [Nat.add_assoc]; exact hC.out (at_ + j) (by omega)
      have hx := HS.out.range (at_ + j)
      have hm := gb_part_bound zs at_ j HS.out.2.1 (by omega)
      have hsn : Hid (gb ((zs.drop at_).take (j + 1)) = gb ((zs.drop at_).take j) * 256 + zs.getD (at_ + j) 0) := by
        show gb _ = _
        rw [drop_take_snoc zs at_ j (by have := HS.out.1; omega), gb_snoc]
      have hmm := gb_part_small zs at_ j HS.out.2.1 (by omega)
      generalize gb ((zs.drop at_).take j) = m at *
      generalize zs.getD (at_ + j) 0 = x at *
      obtain ⟨hx0, hx1⟩ := hx
      obtain ⟨hm0, hm1⟩ := hm
      have hor := join8 m x hm0 (by omega) hx0 hx1
      go_wp2
      go_round
      case rel => exact ⟨j + 1, by omega, by go_num, by rw [hsn.out]⟩
      case measure => simp [intOf]; omega
    · go_wp2
      go_ret2
      have : j = k := by omega
      subst this
      exact ⟨rfl, rfl⟩

set_option maxHeartbeats 400000 in
theorem implGet_no (a : Option Addr) (len cap : Nat) (at_ k : Int) (w : World) (hl : len ≤ 1099511627776) (ha : -9223372036854775808 ≤ at_ ∧ at_ ≤ 9223372036854775807) (hk : -9223372036854775808 ≤ k ∧ k ≤ 9223372036854775807)
    (h : ¬ (1 ≤ k ∧ k ≤ 7 ∧ 0 ≤ at_ ∧ at_ + k ≤ (len : Int))) :
    Calls Tryd.prog 25 #[.slice a len cap, .int .i64 at_, .int .i64 k] w fun e w' => e = .returned (.tuple #[.int .i64 0, .bool false]) ∧ w' = w := by
  obtain ⟨ha0, ha1⟩ := ha
  obtain ⟨hk0, hk1⟩ := hk
  have H : Hid (¬ (1 ≤ k ∧ k ≤ 7 ∧ 0 ≤ at_ ∧ at_ + k ≤ (len : Int))) := h
  clear h
  by_cases h1 : 1 ≤ k
  · by_cases h7 : k ≤ 7
    · by_cases h0 : 0 ≤ at_
      · have h2 : (len : Int) < at_ + k := by have := H.out; omega
        go_enter Tryd.func25, Tryd.ntmps25
        go_wp2
        go_ret2
        exact ⟨rfl, rfl⟩
      · go_enter Tryd.func25, Tryd.ntmps25
        go_wp2
        go_ret2
        exact ⟨rfl, rfl⟩
    · go_enter Tryd.func25, Tryd.ntmps25
      go_wp2
      go_ret2
      exact ⟨rfl, rfl⟩
  · go_enter Tryd.func25, Tryd.ntmps25
    go_wp2
    go_ret2
    exact ⟨rfl, rfl⟩

/-- What GetBig answers. -/
def gbr (zs : List Int) (at_ k : Int) : Int × Bool :=
  if 1 ≤ k ∧ k ≤ 7 ∧ 0 ≤ at_ ∧ at_ + k ≤ (zs.length : Int) then (gb ((zs.drop at_.toNat).take k.toNat), true) else (0, false)

theorem implGet_any (a : Option Addr) (len cap : Nat) (at_ k : Int) (zs : List Int) (w : World) (hs : Seg w a len zs) (hcap : len ≤ cap) (hl : len ≤ 1099511627776) (ha : -9223372036854775808 ≤ at_ ∧ at_ ≤ 9223372036854775807) (hk : -9223372036854775808 ≤ k ∧ k ≤ 9223372036854775807) :
    Calls Tryd.prog 25 #[.slice a len cap, .int .i64 at_, .int .i64 k] w fun e w' => e = .returned (.tuple #[.int .i64 (gbr zs at_ k).1, .bool (gbr zs at_ k).2]) ∧ w' = w := by
  have hz := hs.1
  by_cases h : 1 ≤ k ∧ k ≤ 7 ∧ 0 ≤ at_ ∧ at_ + k ≤ (zs.length : Int)
  · obtain ⟨K, rfl⟩ := Int.eq_ofNat_of_zero_le (show 0 ≤ k by omega)
    obtain ⟨T, rfl⟩ := Int.eq_ofNat_of_zero_le h.2.2.1
    rw [gbr, if_pos h, Int.toNat_natCast, Int.toNat_natCast]
    exact implGet_yes a len cap T K zs w hs hcap hl (by omega) (by omega) (by omega)
  · rw [gbr, if_neg h]
    exact implGet_no a len cap at_ k w hl ha hk (by omega)

end Go.Proofs.YtikefigacggohatDoor
