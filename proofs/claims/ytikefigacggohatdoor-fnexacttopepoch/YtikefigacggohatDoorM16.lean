/- A disk that comes in: its two rows of texts. The record that the program tells of bytes, what is not there as noughts; no program in it. What the program's cutAt answers: a part of bytes. -/
import Derived.Test.YtikefigacggohatDoorM02
import Derived.Lib.SmallJoins
import Derived.OpenShut
import Derived.ChangeOld
import Derived.WalkKit
import Derived.ProofKit
import Derived.Deep.Slices
import Derived.Test.YtikefigacggohatDoorM05
import Derived.Test.YtikefigacggohatDoorM11
import Derived.Test.YtikefigacggohatDoorM01
namespace Go.Proofs.YtikefigacggohatDoor
open Go.RowKit Go.ChangeShapes Go.WideShapes
set_option linter.unusedVariables false

theorem Strs.opened {H : Type} {enc : TypeId × Value → H} {w : World} {fuel : Nat} {v : Value} {x : DataW H × List MemPlace} (h : DataW.trod enc Tryd.prog w 0 (fun _ => true) true fuel 22 [v] = some x) :
    ∃ a len cap xs, v = .slice a len cap ∧ len ≤ maxLen ∧ Strs w a len xs := by
  rcases Go.Deep.open_slice1 Tryd.underlying22 (by kernel_rfl) h with ⟨hcs, _⟩ | ⟨a, len, cap, m, n, V, D, Pl, hcs, _, hl, hm, hmm, _, hc⟩
  · simp at hcs
    exact ⟨none, 0, 0, [], hcs, Nat.zero_le _, rfl, by simp, .inl rfl⟩
  · simp at hcs hmm
    subst hmm
    have hs : ∀ i, i < m → ∃ f : ByteArray, V i = .string f ∧ f.size ≤ maxLen := by
      intro i hi
      obtain ⟨_, h0⟩ := hc i hi
      obtain ⟨s, e0, _, z0⟩ := DataW.trod_string Tryd.underlying9 h0
      exact ⟨s, by simpa using e0, z0⟩
    refine ⟨some a, len, m, (List.range len).map fun i => if hi : i < m then Classical.choose (hs i hi) else ⟨#[]⟩, hcs, by omega, by simp, ?_, ?_⟩
    · intro f hf
      obtain ⟨i, hi, rfl⟩ := List.mem_map.1 hf
      have him : i < m := by have := List.mem_range.1 hi; omega
      rw [dif_pos him]
      exact (Classical.choose_spec (hs i him)).2
    · by_cases h0 : len = 0
      · exact .inl h0
      · right
        obtain ⟨b, off, spot⟩ := a
        have hspot : spot = none := by simpa [Addr.add] using World.cell?_spot (hc 0 (by omega)).1
        subst hspot
        have key : ∀ i (hi : i < m), w.cell? ⟨b, off + i, none⟩ = some (.string (Classical.choose (hs i hi))) := by
          intro i hi
          have hq := Classical.choose_spec (hs i hi)
          have hcc := (hc i hi).1
          rw [← hq.1]
          by_cases hi0 : i = 0
          · subst hi0
            simpa [Addr.add] using hcc
          · simpa [Addr.add, hi0] using hcc
        refine ⟨b, off, rfl, lt_of_cell (key 0 (by omega)), fun i hi => ?_⟩
        have hil : i < len := by simpa using hi
        have := key i (by omega)
        simpa [show i < m by omega] using this

set_option maxRecDepth 100000 in
theorem disk_opened {H : Type} {enc : TypeId × Value → H} {w : World} {r : Reach} {b0 : Nat} {v : Value} {d : DataW H} {p : List MemPlace} (hv : Value.okWide Tryd.prog w r b0 24 v) (h : DataW.Trod enc Tryd.prog w 0 (fun _ => true) true 24 v d p) :
    ∃ (a : Option Addr) (n ca : Nat) (xs : List ByteArray) (a' : Option Addr) (n' ca' : Nat) (ys : List ByteArray), v = .agg #[.slice a n ca, .slice a' n' ca'] ∧ n ≤ maxLen ∧ n' ≤ maxLen ∧ Strs w a n xs ∧ Strs w a' n' ys := by
  obtain ⟨v0, v1, y0, y1, m, rfl, _, _, h0, h1⟩ := Go.Joins.open_agg2 Tryd.underlying24 (by kernel_rfl) (by kernel_rfl) hv h
  obtain ⟨a, n, ca, xs, rfl, hl, hx⟩ := Strs.opened h0
  obtain ⟨a', n', ca', ys, rfl, hl', hy⟩ := Strs.opened h1
  exact ⟨a, n, ca, xs, a', n', ca', ys, rfl, hl, hl', hx, hy⟩

end Go.Proofs.YtikefigacggohatDoor

namespace Go.Proofs.YtikefigacggohatDoor
open Go.RowKit
set_option linter.unusedVariables false

theorem gbrN (zs : List Int) (at_ k : Nat) (h1 : 1 ≤ k) (h7 : k ≤ 7) : gbr zs (at_ : Int) (k : Int) = if at_ + k ≤ zs.length then (gb ((zs.drop at_).take k), true) else (0, false) := by
  split
  · rename_i h
    rw [gbr, if_pos ⟨by omega, by omega, by omega, by omega⟩, Int.toNat_natCast, Int.toNat_natCast]
  · rename_i h
    rw [gbr, if_neg (by omega)]

theorem gbr_at {zs : List Int} {at_ k : Nat} (h1 : 1 ≤ k) (h7 : k ≤ 7) (h : at_ + k ≤ zs.length) : (gbr zs (at_ : Int) (k : Int)).1 = gb ((zs.drop at_).take k) := by rw [gbrN _ _ _ h1 h7, if_pos h]

/-- How many bytes are told behind a place, and these. -/
def shortN (l : List Int) (T : Nat) : Nat := (gbr l (T : Int) ((1 : Nat) : Int)).1.toNat
def shortL (l : List Int) (T : Nat) : List Int := if T + 1 + shortN l T ≤ l.length then (l.drop (T + 1)).take (shortN l T) else []

theorem gb_one (l : List Int) (hr : ∀ x ∈ l, 0 ≤ x ∧ x ≤ 255) (k : Nat) : 0 ≤ gb ((l.drop k).take 1) ∧ gb ((l.drop k).take 1) ≤ 255 := by
  have h := gb_bound ((l.drop k).take 1) (fun n hn => hr n (List.mem_of_mem_drop (List.mem_of_mem_take hn)))
  have hl : ((l.drop k).take 1).length ≤ 1 := by simp; omega
  have hp : (256 : Nat) ^ ((l.drop k).take 1).length ≤ 256 ^ 1 := Nat.pow_le_pow_right (by omega) hl
  omega

theorem shortN_is (l : List Int) (hr : ∀ x ∈ l, 0 ≤ x ∧ x ≤ 255) (T : Nat) : (gbr l (T : Int) ((1 : Nat) : Int)).1 = (shortN l T : Int) ∧ shortN l T ≤ 255 := by
  have h := gb_one l hr T
  rw [shortN, gbrN l T 1 (by omega) (by omega)]
  split
  · dsimp only
    omega
  · simp

theorem shortL_len (l : List Int) (T : Nat) : (shortL l T).length = if T + 1 + shortN l T ≤ l.length then shortN l T else 0 := by
  rw [shortL]
  split
  · simp
    omega
  · rfl

/-- The record that is told. -/
def looseR (l : List Int) : R :=
  ⟨(gbr l ((0 : Nat) : Int) ((3 : Nat) : Int)).1, (gbr l ((3 : Nat) : Int) ((2 : Nat) : Int)).1, (gbr l ((5 : Nat) : Int) ((1 : Nat) : Int)).1, txU (shortL l 6), (gbr l ((7 + shortN l 6 : Nat) : Int) ((4 : Nat) : Int)).1, shortL l (11 + shortN l 6)⟩

/-- Where all is there it is that one. -/
theorem loose_is {l : List Int} (h : 16 + idN l + dataN l ≤ l.length) : looseR l = parseR l := by
  have e6 : shortN l 6 = idN l := by rw [shortN, gbr_at (by omega) (by omega) (by omega), idN]
  have e7 : shortL l 6 = (l.drop 7).take (idN l) := by rw [shortL, e6, if_pos (by omega)]
  have e11 : shortN l (11 + idN l) = dataN l := by rw [shortN, gbr_at (by omega) (by omega) (by omega), dataN]
  have e12 : shortL l (11 + idN l) = (l.drop (12 + idN l)).take (dataN l) := by
    rw [shortL, e11, if_pos (by omega), show 11 + idN l + 1 = 12 + idN l by omega]
  rw [looseR, e6, e7, e12, parseR, gbr_at (by omega) (by omega) (by omega), gbr_at (by omega) (by omega) (by omega), gbr_at (by omega) (by omega) (by omega), gbr_at (by omega) (by omega) (by omega), List.drop_zero]

theorem loose_some {s : ByteArray} (h1 : (looseR (txI s)).ok = true) (h2 : (looseR (txI s)).put = txI s) : recOf s = some (looseR (txI s)) := recOf_iff.2 ⟨h1, h2⟩

theorem loose_none {s : ByteArray} (h : ¬ ((looseR (txI s)).ok = true ∧ (looseR (txI s)).put = txI s)) : recOf s = none := by
  cases hr : recOf s with
  | none => rfl
  | some r =>
    have hl := recOf_len (s := s) (by rw [hr]; exact Option.some_ne_none r)
    have e := loose_is (l := txI s) (by rw [txI_len]; omega)
    have hp := recOf_iff.1 hr
    have : recOf s = some (parseR (txI s)) := by
      rw [recOf] at hr ⊢
      split
      · rfl
      · rename_i hn
        rw [if_neg hn] at hr
        cases hr
    rw [hr] at this
    injection this with this
    exact absurd (by rw [e, ← this]; exact hp) h

theorem recOf_long {s : ByteArray} (h : 48 < s.size) : recOf s = none := by
  cases hr : recOf s with
  | none => rfl
  | some r =>
    have hl := recOf_len (s := s) (by rw [hr]; exact Option.some_ne_none r)
    omega

end Go.Proofs.YtikefigacggohatDoor

namespace Go.Proofs.YtikefigacggohatDoor
open Go.RowKit
set_option linter.unusedVariables false

theorem Seg.part {w : World} {b off len : Nat} {zs : List Int} (h : Seg w (some ⟨b, off, none⟩) len zs) (T n : Nat) (hT : T + n ≤ len) : Seg w (some ⟨b, off + T, none⟩) n ((zs.drop T).take n) := by
  have hl := h.1
  refine ⟨by rw [List.length_take, List.length_drop]; omega, fun x hx => h.2.1 x (List.mem_of_mem_drop (List.mem_of_mem_take hx)), ?_⟩
  rcases h.2.2 with h0 | ⟨b', off', e, hb, hc⟩
  · exact .inl (by omega)
  · simp only [Option.some.injEq, Addr.mk.injEq, and_true] at e
    obtain ⟨rfl, rfl⟩ := e
    refine .inr ⟨b, off + T, rfl, hb, fun i hi => ?_⟩
    rw [Nat.add_assoc, hc (T + i) (by omega)]
    rw [List.getD_eq_getElem?_getD, List.getD_eq_getElem?_getD, List.getElem?_take, if_pos hi, List.getElem?_drop]

theorem row_alloc {W : World} {b : Nat} {x : Obj} (h : W.heap[b]? = some x) (o : Obj) : (W.alloc o).heap[b]? = some x := by
  have hl := (Array.getElem?_eq_some_iff.1 h).1
  show (W.heap.push o)[b]? = _
  rw [Array.getElem?_push, if_neg (by omega)]
  exact h

theorem Seg.zero {w : World} (a : Option Addr) (zs : List Int) (T : Nat) : Seg w a 0 ((zs.drop T).take 0) := ⟨by simp, by simp, .inl rfl⟩

set_option maxHeartbeats 800000 in
theorem cut_no (a : Option Addr) (len cap n : Nat) (at_ : Int) (w : World) (hl : len ≤ 1099511627776) (hn : n ≤ 1099511627776) (ha : -9223372036854775808 ≤ at_ ∧ at_ ≤ 9223372036854775807) (h : ¬ (0 ≤ at_ ∧ at_ + n ≤ (len : Int))) :
    Calls Tryd.prog 31 #[.slice a len cap, .int .i64 at_, .int .i64 n] w fun e w' => e = .returned (.tuple #[.slice none 0 0, .bool false]) ∧ w' = w := by
  obtain ⟨ha0, ha1⟩ := ha
  by_cases h0 : at_ < 0
  · clear h
    go_enter Tryd.func31, Tryd.ntmps31
    go_wp2
    go_ret2
    exact ⟨rfl, rfl⟩
  · have h1 : (len : Int) - n < at_ := by omega
    clear h
    go_enter Tryd.func31, Tryd.ntmps31
    go_wp2
    go_ret2
    exact ⟨rfl, rfl⟩

set_option maxHeartbeats 800000 in
theorem cut_yes (a : Option Addr) (len cap n T : Nat) (zs : List Int) (w : World) (hs : Seg w a len zs) (hc : len ≤ cap) (hl : len ≤ 1099511627776) (h : T + n ≤ len) :
    Calls Tryd.prog 31 #[.slice a len cap, .int .i64 T, .int .i64 n] w fun e w' => ∃ a', e = .returned (.tuple #[.slice a' n n, .bool true]) ∧ Seg w a' n ((zs.drop T).take n) ∧ w' = w := by
  have HS : Hid (Seg w a len zs) := hs
  clear hs
  have h1 : ¬ (len : Int) - n < T := by omega
  by_cases h0 : n = 0
  · subst h0
    cases a with
    | none =>
      have hl0 : len = 0 := by
        rcases HS.out.2.2 with h | ⟨b, off, e, _⟩
        · exact h
        · cases e
      subst hl0
      obtain rfl : T = 0 := by omega
      go_enter Tryd.func31, Tryd.ntmps31
      go_wp2
      go_ret2
      exact ⟨_, rfl, Seg.zero none zs 0, rfl⟩
    | some ad =>
      go_enter Tryd.func31, Tryd.ntmps31
      go_wp2
      go_ret2
      exact ⟨_, rfl, Seg.zero (some ad) zs T, rfl⟩
  · obtain ⟨b, off, rfl⟩ : ∃ b off, a = some ⟨b, off, none⟩ := by
      rcases HS.out.2.2 with h | ⟨b, off, e, _⟩
      · omega
      · exact ⟨b, off, e⟩
    go_enter Tryd.func31, Tryd.ntmps31
    go_wp2
    go_ret2
    exact ⟨_, rfl, HS.out.part T n h, rfl⟩

end Go.Proofs.YtikefigacggohatDoor
