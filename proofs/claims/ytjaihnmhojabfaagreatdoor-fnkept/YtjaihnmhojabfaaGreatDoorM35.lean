/- What the program's shortAt answers; a part of bytes as a text. The library's Clone of bytes: the same bytes in memory of its own. -/
import Derived.Test.YtjaihnmhojabfaaGreatDoorM34
import Derived.Test.YtjaihnmhojabfaaGreatDoorM34
import Derived.Test.YtjaihnmhojabfaaGreatDoorM10
import Derived.Lib.SliceRun
import Derived.Test.YtjaihnmhojabfaaGreatDoorM01
namespace Go.Proofs.YtjaihnmhojabfaaGreatDoor
open Go.RowKit
set_option linter.unusedVariables false

/-- Bytes as a text, wherever they stand. -/
theorem conv_seg {W : World} {a : Option Addr} {M c : Nat} {zs : List Int} (h : Seg W a M zs) : (convert 22 9 (.slice a M c)).run Tryz.prog W = .ok (.string (txU zs)) W := by
  rcases h.2.2 with h0 | ⟨b, off, e, _⟩
  · subst h0
    obtain rfl : zs = [] := List.eq_nil_of_length_eq_zero h.1
    cases a with
    | none => simp [go_sem, convert, txU, Conv.bytesToString, loadCells]; rfl
    | some ad => simp [go_sem, convert, txU, Conv.bytesToString, loadCells]; rfl
  · subst e
    exact conv_txt_at h

set_option maxHeartbeats 800000 in
theorem cut_yesW (a : Option Addr) (len cap n T : Nat) (zs : List Int) (w : World) (hs : Seg w a len zs) (hc : len ≤ cap) (hl : len ≤ 1099511627776) (h : T + n ≤ len) :
    Calls Tryz.prog 129 #[.slice a len cap, .int .i64 T, .int .i64 n] w fun e w' => ∃ a', e = .returned (.tuple #[.slice a' n n, .bool true]) ∧ (∀ W, Seg W a len zs → Seg W a' n ((zs.drop T).take n)) ∧ w' = w := by
  have HS : Hid (Seg w a len zs) := hs
  clear hs
  have h1 : ¬ (len : Int) - n < T := by omega
  by_cases h0 : n = 0
  · subst h0
    cases a with
    | none =>
      have hl0 : len = 0 := by
        rcases HS.out.2.2 with h | ⟨b, off, e, _⟩
        · exact h
        · cases e
      subst hl0
      obtain rfl : T = 0 := by omega
      go_enter Tryz.func129, Tryz.ntmps129
      go_wp2
      go_ret2
      exact ⟨_, rfl, fun W _ => Seg.zero none zs 0, rfl⟩
    | some ad =>
      go_enter Tryz.func129, Tryz.ntmps129
      go_wp2
      go_ret2
      exact ⟨_, rfl, fun W _ => Seg.zero (some ad) zs T, rfl⟩
  · obtain ⟨b, off, rfl⟩ : ∃ b off, a = some ⟨b, off, none⟩ := by
      rcases HS.out.2.2 with h | ⟨b, off, e, _⟩
      · omega
      · exact ⟨b, off, e⟩
    go_enter Tryz.func129, Tryz.ntmps129
    go_wp2
    go_ret2
    exact ⟨_, rfl, fun W hW => hW.part T n h, rfl⟩


set_option maxRecDepth 10000 in
set_option maxHeartbeats 800000 in
theorem shortAt_any (a : Option Addr) (len cap T : Nat) (zs : List Int) (w : World) (hs : Seg w a len zs) (hc : len ≤ cap) (hl : len ≤ 1099511627776) (hT : T ≤ 1000000) :
    Calls Tryz.prog 125 #[.slice a len cap, .int .i64 T] w fun e w' => (∃ a', e = .returned (.tuple #[.slice a' (shortL zs T).length (shortL zs T).length, .int .i64 ((T + 1 + shortN zs T : Nat) : Int)]) ∧ ∀ W, Seg W a len zs → Seg W a' (shortL zs T).length (shortL zs T)) ∧ w' = w := by
  have HS : Hid (Seg w a len zs) := hs
  obtain ⟨hn, hn255⟩ := shortN_is zs hs.2.1 T
  have hzl := hs.1
  have HL := (show Hid _ from shortL_len zs T)
  have HD : Hid (T + 1 + shortN zs T ≤ zs.length → shortL zs T = (zs.drop (T + 1)).take (shortN zs T)) := fun h => if_pos h
  have HD2 : Hid (¬ T + 1 + shortN zs T ≤ zs.length → shortL zs T = []) := fun h => if_neg h
  clear hs
  generalize shortN zs T = n at *
  generalize shortL zs T = L at *
  go_enter Tryz.func125, Tryz.ntmps125
  go_wp2_with fail
  refine (implGet_any a len cap T 1 zs w HS.out hc hl (by omega) (by omega)).mono ?_
  rintro e w1 ⟨rfl, rfl⟩
  rw [show ((1 : Int)) = ((1 : Nat) : Int) from rfl, hn]
  generalize hb : (gbr zs (T : Int) ((1 : Nat) : Int)).2 = bb at *
  clear hb hn
  by_cases h : T + 1 + n ≤ zs.length
  · rw [if_pos h] at HL
    have HDD : Hid (L = (zs.drop (T + 1)).take n) := HD.out h
    clear HD HD2
    go_wp2_with fail
    refine (cut_yesW a len cap n (T + 1) zs w1 HS.out hc hl (by omega)).mono ?_
    rintro e w2 ⟨a', rfl, hs2, rfl⟩
    have HS2 : Hid (∀ W, Seg W a len zs → Seg W a' n L) := by rw [HDD.out]; exact hs2
    clear hs2
    go_wp2_with fail
    go_ret2
    exact ⟨⟨a', by rw [HL.out, Int.natCast_add, Int.natCast_add]; rfl, by rw [HL.out]; exact HS2.out⟩, rfl⟩
  · rw [if_neg h] at HL
    have HDD : Hid (L = []) := HD2.out h
    clear HD HD2
    go_wp2_with fail
    refine (cut_no a len cap n (T + 1 : Int) w1 hl (by omega) (by omega) (by omega)).mono ?_
    rintro e w2 ⟨rfl, rfl⟩
    go_wp2_with fail
    go_ret2
    exact ⟨⟨none, by rw [HL.out, Int.natCast_add, Int.natCast_add]; rfl, fun W _ => by rw [HDD.out]; exact ⟨rfl, by simp, .inl rfl⟩⟩, rfl⟩

theorem shortAt_at (a : Option Addr) (len cap T : Nat) (K : Int) (hK : K = (T : Int)) (zs : List Int) (w : World) (hs : Seg w a len zs) (hc : len ≤ cap) (hl : len ≤ 1099511627776) (hT : T ≤ 1000000) :
    Calls Tryz.prog 125 #[.slice a len cap, .int .i64 K] w fun e w' => (∃ a', e = .returned (.tuple #[.slice a' (shortL zs T).length (shortL zs T).length, .int .i64 ((T + 1 + shortN zs T : Nat) : Int)]) ∧ ∀ W, Seg W a len zs → Seg W a' (shortL zs T).length (shortL zs T)) ∧ w' = w := by
  subst hK
  exact shortAt_any a len cap T zs w hs hc hl hT

end Go.Proofs.YtjaihnmhojabfaaGreatDoor

namespace Go.Proofs.YtjaihnmhojabfaaGreatDoor
open Go.RowKit
set_option linter.unusedVariables false

set_option maxRecDepth 10000 in
set_option maxHeartbeats 400000 in
theorem cloneB_any (a : Option Addr) (len cap : Nat) (zs : List Int) (w : World) (hs : Seg w a len zs) (hl : len ≤ 1099511627776) :
    Calls Tryz.prog 86 #[.slice a len cap] w fun e w' => ∃ a' cap', e = .returned (.slice a' len cap') ∧ Owns w' w.heap.size a' len cap' zs ∧ Below w.heap.size w w' := by
  obtain ⟨i0, hi, hz0, hz1, hz2⟩ := info_parts Tryz.info5
  have qT : ∀ (w : World) (a : Option Addr) (n c n' c' : Nat), (binOp .eql 22 (.slice a n c) (.slice none n' c')).run Tryz.prog w = .ok (.bool a.isNone) w := fun w a n c n' c' => Lib.run_eql_slice_nil w _ _ a n c n' c' Tryz.underlying22
  cases a with
  | none =>
    have h0 : len = 0 := by
      rcases hs.2.2 with h | ⟨b, off, h, _⟩
      · exact h
      · cases h
    subst h0
    obtain rfl : zs = [] := List.eq_nil_of_length_eq_zero hs.1
    go_enter Tryz.func86, Tryz.ntmps86
    go_wp2
    go_ret
    exact ⟨none, 0, rfl, ⟨World.ownsRow_nil _ _ _ _, by simp⟩, Below.refl _ _⟩
  | some ad =>
    have hzl : zs.length = len := hs.1
    have HC : Hid (∀ j u, (zs.map (Value.int .u8))[j]? = some u → (w.alloc (.cells #[] 5)).cell? (ad.add j) = some u) := by
      intro j u hj
      have hl2 : j < zs.length := by
        by_cases h : j < zs.length
        · exact h
        · rw [List.getElem?_eq_none (by simp; omega)] at hj; cases hj
      rcases hs.2.2 with h | ⟨b, off, h, _⟩
      · omega
      · injection h with h
        subst h
        exact cells_ints (hs.below ((Below.refl _ _).alloc (Nat.le_refl _) _)) j u hj
    have HR : Hid (∀ n ∈ zs, 0 ≤ n ∧ n ≤ 255) := hs.2.1
    have HO1 : Hid ((w.alloc (.cells #[] 5)).ownsRow w.heap.size 5 1 (.slice (some ⟨w.heap.size, 0, none⟩) 0 0) 0 []) := World.ownsRow_lit w #[] 0 (Nat.le_refl _) (Nat.zero_le _) rfl
    clear hs
    go_enter Tryz.func86, Tryz.ntmps86
    go_wp2_with (at_builtin; refine wpList_append_own _ rfl _ _ 22 rfl w.heap.size 5 i0 (.int .u8 0) 1 1 Tryz.underlying22 hi hz0 hz1 hz2 rfl (by decide) (.slice (some ⟨w.heap.size, 0, none⟩) 0 0) 0 [] rfl HO1.out ad len cap (zs.map (Value.int .u8)) rfl (by simp [hzl]) HC.out (ints_one zs) (by unfold maxLen; omega) (by omega) (by simp) ?_; intro v1 w1 hown1 hgrow1 _; refine Hid.out ?_)
    refine hidden ?_
    have HB1 : Hid (Below w.heap.size w w1) := ((Below.refl _ _).alloc (Nat.le_refl _) _).grown hgrow1 (by simp) (by simp [Value.ownBlock])
    obtain ⟨a1, c1, rfl⟩ := shape_of_owns hown1
    have HO2 : Hid (w1.ownsRow w.heap.size 5 1 (.slice a1 len c1) len (zs.map (Value.int .u8))) := by
      show World.ownsRow _ _ _ _ _ _ _
      have h := hown1
      rw [Nat.zero_add] at h
      simpa using h
    have hll : 0 + len = len := Nat.zero_add _
    rw [hll]
    clear hown1 hgrow1
    go_wp2_with fail
    go_ret
    exact ⟨_, _, rfl, ⟨HO2.out, HR.out⟩, HB1.out⟩

end Go.Proofs.YtjaihnmhojabfaaGreatDoor
