/- What the test of a range answers. What both programs' PutBig answer: the bytes and behind them those of the number, in memory of its own; nothing that was there is written. For lists of at most 2^40 bytes that are not nil. What the specification's PutFrame answers: the frame's bytes, in memory of its own, or nothing; nothing that was there is written. The bytes of a list of frames: what the specification's l16Frames answers. Pieces of a list of bytes. No program in it. -/
import Derived.Test.YtbaijmkghgnleaaGreatDoorM01
import Derived.Test.YtbaijmkghgnleaaGreatDoorM25
import Derived.Test.YtbaijmkghgnleaaGreatDoorM25
import Derived.Test.YtbaijmkghgnleaaGreatDoorM24
import Derived.Test.YtbaijmkghgnleaaGreatDoorM23
import Derived.Test.YtbaijmkghgnleaaGreatDoorM08
import Derived.Test.YtbaijmkghgnleaaGreatDoorM14
import Derived.Deep.RegionHeld3
import Derived.Test.YtbaijmkghgnleaaGreatDoorM03
import Derived.Deep.CutBlock
namespace Go.Proofs.YtbaijmkghgnleaaGreatDoor
open Go.RowKit
set_option linter.unusedVariables false

set_option maxHeartbeats 400000 in
theorem l1In_yes (x lo hi : Int) (w : World) (h1 : lo ≤ x) (h2 : x ≤ hi) : Calls Tryz.prog 20 #[.int .i64 x, .int .i64 lo, .int .i64 hi] w fun e w' => e = .returned (.bool true) ∧ w' = w := by
  go_enter Tryz.func20, Tryz.ntmps20
  go_wp2
  go_ret
  exact ⟨rfl, rfl⟩

set_option maxHeartbeats 400000 in
theorem l1In_no (x lo hi : Int) (w : World) (h : x < lo ∨ hi < x) : Calls Tryz.prog 20 #[.int .i64 x, .int .i64 lo, .int .i64 hi] w fun e w' => e = .returned (.bool false) ∧ w' = w := by
  by_cases h1 : x < lo
  · clear h
    go_enter Tryz.func20, Tryz.ntmps20
    go_wp2
    go_ret
    exact ⟨rfl, rfl⟩
  · have h2 : hi < x := by omega
    clear h
    go_enter Tryz.func20, Tryz.ntmps20
    go_wp2
    go_ret
    exact ⟨ret_bool (by simp; omega), rfl⟩

theorem l1In_any (x lo hi : Int) (w : World) : Calls Tryz.prog 20 #[.int .i64 x, .int .i64 lo, .int .i64 hi] w fun e w' => e = .returned (.bool (decide (lo ≤ x ∧ x ≤ hi))) ∧ w' = w := by
  by_cases h : lo ≤ x ∧ x ≤ hi
  · rw [decide_eq_true h]
    exact l1In_yes x lo hi w h.1 h.2
  · rw [decide_eq_false h]
    exact l1In_no x lo hi w (by omega)

end Go.Proofs.YtbaijmkghgnleaaGreatDoor

namespace Go.Proofs.YtbaijmkghgnleaaGreatDoor
open Go.RowKit
set_option linter.unusedVariables false

set_option maxRecDepth 10000 in
set_option maxHeartbeats 400000 in
theorem specPut_yes (b off len cap n k : Nat) (zs : List Int) (w : World) (hs : Seg w (some ⟨b, off, none⟩) len zs) (hb : b < w.heap.size) (hl : len ≤ 1099511627776) (hn : n ≤ 9223372036854775807) (h1 : 1 ≤ k) (h8 : k ≤ 8) :
    Calls Tryz.prog 50 #[.slice (some ⟨b, off, none⟩) len cap, .int .i64 n, .int .i64 k] w fun e w' => ∃ a' cap', e = .returned (.slice a' (len + k) cap') ∧ Owns w' w.heap.size a' (len + k) cap' (zs ++ pbl n k k) ∧ Below w.heap.size w w' := by
  obtain ⟨i0, hi, hz0, hz1, hz2⟩ := info_parts Tryz.info5
  have HS : Hid (Seg w (some ⟨b, off, none⟩) len zs) := hs
  have hzl : zs.length = len := hs.1
  have hS1 : Hid (Seg (w.alloc (.cells #[] 5)) (some ⟨b, off, none⟩) len zs) := hs.below ((Below.refl _ _).alloc (Nat.le_refl _) _)
  have hO1 : Hid ((w.alloc (.cells #[] 5)).ownsRow w.heap.size 5 1 (.slice (some ⟨w.heap.size, 0, none⟩) 0 0) 0 []) := World.ownsRow_lit w #[] 0 (Nat.le_refl _) (Nat.zero_le _) rfl
  clear hs
  have hk1 : (1 : Int) ≤ (k : Int) := by omega
  have hk8 : (k : Int) ≤ 8 := by omega
  go_enter Tryz.func50, Tryz.ntmps50
  go_wp2_with (at_builtin; refine wpList_append_own _ rfl _ _ 27 rfl w.heap.size 5 i0 (.int .u8 0) 1 1 Tryz.underlying27 hi hz0 hz1 hz2 rfl (by decide) (.slice (some ⟨w.heap.size, 0, none⟩) 0 0) 0 [] rfl hO1.out ⟨b, off, none⟩ len cap (zs.map (Value.int .u8)) rfl (by simp [hzl]) (cells_ints hS1.out) (ints_one zs) (by unfold maxLen; omega) (by omega) (by simp) ?_; intro v1 w1 hown1 hgrow1 _; refine Hid.out ?_)
  refine hidden ?_
  have HO : Hid (w1.ownsRow w.heap.size 5 1 v1 (len + 0) ((zs ++ pbl n k 0).map (Value.int .u8))) := by
    show World.ownsRow _ _ _ _ _ _ _
    simpa [pbl] using hown1
  have HB : Hid (Below w.heap.size w w1) := ((Below.refl _ _).alloc (Nat.le_refl _) _).grown hgrow1 (by simp) (by simp [Value.ownBlock])
  clear hown1 hgrow1 hO1 hS1
  go_wp2_with (go_at_call 20; refine (l1In_yes _ _ _ _ hk1 hk8).mono ?_; rintro e w' ⟨rfl, rfl⟩)
  go_loopw [7, 8] (fun v i wr => ∃ t : Nat, t ≤ k ∧ i = .int .i64 ((k : Int) - 1 - t) ∧ Hid (wr.ownsRow w.heap.size 5 1 v (len + t) ((zs ++ pbl n k t).map (Value.int .u8))) ∧ Hid (Below w.heap.size w wr)) (fun _ i _ => (intOf i + 1).toNat)
  case atStart => exact ⟨0, Nat.zero_le _, by go_num, HO, HB⟩
  case round =>
    clear HO HB
    obtain ⟨t, ht, rfl, HO, HB⟩ := hrel
    by_cases hlt : t < k
    · have hsz := HB.out.size
      have hone := one_new wr (byteOf n (k - 1 - t))
      have HN : Hid (∀ j u, [Value.int .u8 (byteOf n (k - 1 - t))][j]? = some u → (wr.alloc (.cells #[.int .u8 (byteOf n (k - 1 - t))] 5)).cell? ((⟨wr.heap.size, 0, none⟩ : Addr).add j) = some u) := hone
      clear hone
      go_wp2_with (at_builtin; refine wpList_append_own _ rfl _ _ 27 rfl w.heap.size 5 i0 (.int .u8 0) 1 1 Tryz.underlying27 hi hz0 hz1 hz2 rfl (by decide) u7 (len + t) _ rfl (HO.out.alloc _) ⟨wr.heap.size, 0, none⟩ 1 1 [.int .u8 (byteOf n (k - 1 - t))] rfl rfl HN.out (ints_one [byteOf n (k - 1 - t)]) (by unfold maxLen; omega) (by omega) (by simp; omega) ?_; intro v2 w2 hown2 hgrow2 _; refine Hid.out ?_)
      refine hidden ?_
      have HO2 : Hid (w2.ownsRow w.heap.size 5 1 v2 (len + (t + 1)) ((zs ++ pbl n k (t + 1)).map (Value.int .u8))) := by
        show World.ownsRow _ _ _ _ _ _ _
        rw [pbl_succ, ← List.append_assoc, List.map_append]
        exact hown2
      have HB2 : Hid (Below w.heap.size w w2) := (HB.out.alloc (by omega) _).grown hgrow2 (by simp; omega) (fun q hq => (HO.out.lt q hq).1)
      clear hown2 hgrow2 HN HO HB
      go_wp2
      go_roundw
      case rel => exact ⟨t + 1, by omega, by go_num, HO2, HB2⟩
      case measure => simp [intOf]; omega
    · have htk : t = k := by omega
      subst htk
      obtain ⟨a', cap', rfl⟩ := shape_of_owns HO.out
      go_wp2
      go_ret
      refine ⟨a', cap', rfl, ⟨HO.out, ?_⟩, HB.out⟩
      intro x hx
      rcases List.mem_append.1 hx with hx | hx
      · exact HS.out.2.1 x hx
      · exact pbl_range _ _ _ x hx

set_option maxRecDepth 10000 in
set_option maxHeartbeats 400000 in
theorem specPut_neg (b off len cap k : Nat) (n : Int) (zs : List Int) (w : World) (hs : Seg w (some ⟨b, off, none⟩) len zs) (hb : b < w.heap.size) (hl : len ≤ 1099511627776) (hn : n < 0) (h1 : 1 ≤ k) (h8 : k ≤ 8) :
    Calls Tryz.prog 50 #[.slice (some ⟨b, off, none⟩) len cap, .int .i64 n, .int .i64 k] w fun e w' => ∃ a' cap', e = .returned (.slice a' (len + k) cap') ∧ Owns w' w.heap.size a' (len + k) cap' (zs ++ pbl 0 k k) ∧ Below w.heap.size w w' := by
  obtain ⟨i0, hi, hz0, hz1, hz2⟩ := info_parts Tryz.info5
  have HS : Hid (Seg w (some ⟨b, off, none⟩) len zs) := hs
  have hzl : zs.length = len := hs.1
  have hS1 : Hid (Seg (w.alloc (.cells #[] 5)) (some ⟨b, off, none⟩) len zs) := hs.below ((Below.refl _ _).alloc (Nat.le_refl _) _)
  have hO1 : Hid ((w.alloc (.cells #[] 5)).ownsRow w.heap.size 5 1 (.slice (some ⟨w.heap.size, 0, none⟩) 0 0) 0 []) := World.ownsRow_lit w #[] 0 (Nat.le_refl _) (Nat.zero_le _) rfl
  clear hs
  have hk1 : (1 : Int) ≤ (k : Int) := by omega
  have hk8 : (k : Int) ≤ 8 := by omega
  go_enter Tryz.func50, Tryz.ntmps50
  go_wp2_with (at_builtin; refine wpList_append_own _ rfl _ _ 27 rfl w.heap.size 5 i0 (.int .u8 0) 1 1 Tryz.underlying27 hi hz0 hz1 hz2 rfl (by decide) (.slice (some ⟨w.heap.size, 0, none⟩) 0 0) 0 [] rfl hO1.out ⟨b, off, none⟩ len cap (zs.map (Value.int .u8)) rfl (by simp [hzl]) (cells_ints hS1.out) (ints_one zs) (by unfold maxLen; omega) (by omega) (by simp) ?_; intro v1 w1 hown1 hgrow1 _; refine Hid.out ?_)
  refine hidden ?_
  have HO : Hid (w1.ownsRow w.heap.size 5 1 v1 (len + 0) ((zs ++ pbl 0 k 0).map (Value.int .u8))) := by
    show World.ownsRow _ _ _ _ _ _ _
    simpa [pbl] using hown1
  have HB : Hid (Below w.heap.size w w1) := ((Below.refl _ _).alloc (Nat.le_refl _) _).grown hgrow1 (by simp) (by simp [Value.ownBlock])
  clear hown1 hgrow1 hO1 hS1
  go_wp2_with (go_at_call 20; refine (l1In_yes _ _ _ _ hk1 hk8).mono ?_; rintro e w' ⟨rfl, rfl⟩)
  go_loopw [7, 8] (fun v i wr => ∃ t : Nat, t ≤ k ∧ i = .int .i64 ((k : Int) - 1 - t) ∧ Hid (wr.ownsRow w.heap.size 5 1 v (len + t) ((zs ++ pbl 0 k t).map (Value.int .u8))) ∧ Hid (Below w.heap.size w wr)) (fun _ i _ => (intOf i + 1).toNat)
  case atStart => exact ⟨0, Nat.zero_le _, by go_num, HO, HB⟩
  case round =>
    clear HO HB
    obtain ⟨t, ht, rfl, HO, HB⟩ := hrel
    by_cases hlt : t < k
    · have hsz := HB.out.size
      have hone := one_new wr ((0 : Int))
      have HN : Hid (∀ j u, [Value.int .u8 ((0 : Int))][j]? = some u → (wr.alloc (.cells #[.int .u8 ((0 : Int))] 5)).cell? ((⟨wr.heap.size, 0, none⟩ : Addr).add j) = some u) := hone
      clear hone
      go_wp2_with (at_builtin; refine wpList_append_own _ rfl _ _ 27 rfl w.heap.size 5 i0 (.int .u8 0) 1 1 Tryz.underlying27 hi hz0 hz1 hz2 rfl (by decide) u7 (len + t) _ rfl (HO.out.alloc _) ⟨wr.heap.size, 0, none⟩ 1 1 [.int .u8 ((0 : Int))] rfl rfl HN.out (ints_one [(0 : Int)]) (by unfold maxLen; omega) (by omega) (by simp; omega) ?_; intro v2 w2 hown2 hgrow2 _; refine Hid.out ?_)
      refine hidden ?_
      have HO2 : Hid (w2.ownsRow w.heap.size 5 1 v2 (len + (t + 1)) ((zs ++ pbl 0 k (t + 1)).map (Value.int .u8))) := by
        show World.ownsRow _ _ _ _ _ _ _
        rw [pbl_succ, byteOf_zero, ← List.append_assoc, List.map_append]
        exact hown2
      have HB2 : Hid (Below w.heap.size w w2) := (HB.out.alloc (by omega) _).grown hgrow2 (by simp; omega) (fun q hq => (HO.out.lt q hq).1)
      clear hown2 hgrow2 HN HO HB
      go_wp2
      go_roundw
      case rel => exact ⟨t + 1, by omega, by go_num, HO2, HB2⟩
      case measure => simp [intOf]; omega
    · have htk : t = k := by omega
      subst htk
      obtain ⟨a', cap', rfl⟩ := shape_of_owns HO.out
      go_wp2
      go_ret
      refine ⟨a', cap', rfl, ⟨HO.out, ?_⟩, HB.out⟩
      intro x hx
      rcases List.mem_append.1 hx with hx | hx
      · exact HS.out.2.1 x hx
      · exact pbl_range _ _ _ x hx

set_option maxRecDepth 10000 in
set_option maxHeartbeats 400000 in
theorem specPut_no (b off len cap : Nat) (n k : Int) (zs : List Int) (w : World) (hs : Seg w (some ⟨b, off, none⟩) len zs) (hb : b < w.heap.size) (hl : len ≤ 1099511627776) (hk : k < 1 ∨ 8 < k) :
    Calls Tryz.prog 50 #[.slice (some ⟨b, off, none⟩) len cap, .int .i64 n, .int .i64 k] w fun e w' => ∃ a' cap', e = .returned (.slice a' len cap') ∧ Owns w' w.heap.size a' len cap' (zs) ∧ Below w.heap.size w w' := by
  obtain ⟨i0, hi, hz0, hz1, hz2⟩ := info_parts Tryz.info5
  have HS : Hid (Seg w (some ⟨b, off, none⟩) len zs) := hs
  have hzl : zs.length = len := hs.1
  have hS1 : Hid (Seg (w.alloc (.cells #[] 5)) (some ⟨b, off, none⟩) len zs) := hs.below ((Below.refl _ _).alloc (Nat.le_refl _) _)
  have hO1 : Hid ((w.alloc (.cells #[] 5)).ownsRow w.heap.size 5 1 (.slice (some ⟨w.heap.size, 0, none⟩) 0 0) 0 []) := World.ownsRow_lit w #[] 0 (Nat.le_refl _) (Nat.zero_le _) rfl
  clear hs
  have HK : Hid (k < 1 ∨ 8 < k) := hk
  clear hk
  go_enter Tryz.func50, Tryz.ntmps50
  go_wp2_with (at_builtin; refine wpList_append_own _ rfl _ _ 27 rfl w.heap.size 5 i0 (.int .u8 0) 1 1 Tryz.underlying27 hi hz0 hz1 hz2 rfl (by decide) (.slice (some ⟨w.heap.size, 0, none⟩) 0 0) 0 [] rfl hO1.out ⟨b, off, none⟩ len cap (zs.map (Value.int .u8)) rfl (by simp [hzl]) (cells_ints hS1.out) (ints_one zs) (by unfold maxLen; omega) (by omega) (by simp) ?_; intro v1 w1 hown1 hgrow1 _; refine Hid.out ?_)
  refine hidden ?_
  have HO : Hid (w1.ownsRow w.heap.size 5 1 v1 len (zs.map (Value.int .u8))) := by
    show World.ownsRow _ _ _ _ _ _ _
    simpa using hown1
  have HB : Hid (Below w.heap.size w w1) := ((Below.refl _ _).alloc (Nat.le_refl _) _).grown hgrow1 (by simp) (by simp [Value.ownBlock])
  clear hown1 hgrow1 hO1 hS1
  obtain ⟨a', cap', rfl⟩ := shape_of_owns HO.out
  by_cases hn0 : n < 0
  all_goals
    go_wp2_with (go_at_call 20; refine (l1In_no _ _ _ _ HK.out).mono ?_; rintro e w' ⟨rfl, rfl⟩)
    go_ret
    exact ⟨a', cap', rfl, ⟨HO.out, HS.out.2.1⟩, HB.out⟩

theorem specPut_any (b off len cap : Nat) (n k : Int) (zs : List Int) (w : World) (hs : Seg w (some ⟨b, off, none⟩) len zs) (hb : b < w.heap.size) (hl : len ≤ 1099511627776) (hn : n ≤ 9223372036854775807) :
    Calls Tryz.prog 50 #[.slice (some ⟨b, off, none⟩) len cap, .int .i64 n, .int .i64 k] w fun e w' => ∃ a' cap', e = .returned (.slice a' (pb zs n k).length cap') ∧ Owns w' w.heap.size a' (pb zs n k).length cap' (pb zs n k) ∧ Below w.heap.size w w' := by
  have hz := hs.1
  by_cases hk : 1 ≤ k ∧ k ≤ 8
  · obtain ⟨K, rfl⟩ := Int.eq_ofNat_of_zero_le (show 0 ≤ k by omega)
    have e : pb zs n K = zs ++ pbl n.toNat K K := by rw [pb, if_pos hk, Int.toNat_natCast]
    have el : (zs ++ pbl n.toNat K K).length = len + K := by rw [List.length_append, pbl_len, hz]
    rw [e, el]
    by_cases h0 : n < 0
    · rw [show n.toNat = 0 by omega]
      exact specPut_neg b off len cap K n zs w hs hb hl h0 (by omega) (by omega)
    · obtain ⟨M, rfl⟩ := Int.eq_ofNat_of_zero_le (show 0 ≤ n by omega)
      rw [Int.toNat_natCast]
      exact specPut_yes b off len cap M K zs w hs hb hl (by omega) (by omega) (by omega)
  · have e : pb zs n k = zs := by rw [pb, if_neg hk, List.append_nil]
    rw [e, hz]
    exact specPut_no b off len cap n k zs w hs hb hl (by omega)

end Go.Proofs.YtbaijmkghgnleaaGreatDoor

namespace Go.Proofs.YtbaijmkghgnleaaGreatDoor
open Go.RowKit
set_option linter.unusedVariables false

/-- A row of two bytes. -/
def TwoAt (W : World) (g : Nat) (p q : Int) : Prop := W.heap[g]? = some (.cells #[.int .u8 p, .int .u8 q] 5 (0, 0))

theorem TwoAt.stays {W W' : World} {g : Nat} {p q : Int} (h : TwoAt W g p q) (hb : Below W.heap.size W W') : TwoAt W' g p q := (hb.block g (Array.getElem?_eq_some_iff.1 h).1).trans h

theorem TwoAt.new (W : World) (p q : Int) : TwoAt (W.alloc (.cells #[.int .u8 p, .int .u8 q] 5)) W.heap.size p q := heap_alloc_new W _

theorem TwoAt.alloc {W : World} {g : Nat} {p q : Int} (h : TwoAt W g p q) (o : Obj) : TwoAt (W.alloc o) g p q := by
  have hl := (Array.getElem?_eq_some_iff.1 h).1
  show (W.heap.push o)[g]? = _
  rw [Array.getElem?_push, if_neg (by omega)]
  exact h

theorem TwoAt.cells {W : World} {g : Nat} {p q : Int} (h : TwoAt W g p q) : ∀ j u, [Value.int .u8 p, Value.int .u8 q][j]? = some u → W.cell? ((⟨g, 0, none⟩ : Addr).add j) = some u := by
  intro j u hj
  match j, hj with
  | 0, hj => simp at hj; subst hj; simp [Addr.add, cell_of_row _ _ _ _ _ _ h]
  | 1, hj => simp at hj; subst hj; simp [Addr.add, cell_of_row _ _ _ _ _ _ h]

theorem specPut_to (b off len cap n k m : Nat) (zs : List Int) (w : World) (hs : Seg w (some ⟨b, off, none⟩) len zs) (hb : b < w.heap.size) (hl : len ≤ 1099511627776) (hn : n ≤ 9223372036854775807) (h1 : 1 ≤ k) (h8 : k ≤ 8) (hm : len + k = m) :
    Calls Tryz.prog 50 #[.slice (some ⟨b, off, none⟩) len cap, .int .i64 n, .int .i64 k] w fun e w' => ∃ a' cap', e = .returned (.slice a' m cap') ∧ Owns w' w.heap.size a' m cap' (zs ++ pbl n k k) ∧ Below w.heap.size w w' := by
  subst hm
  exact specPut_yes b off len cap n k zs w hs hb hl hn h1 h8

theorem Owns.someF {w : World} {base n cap : Nat} {a : Option Addr} {zs : List Int} (h : Owns w base a n cap zs) (hn : 0 < n) : ∃ g, a = .some ⟨g, 0, Option.none⟩ := by
  rcases h.1.2 with ⟨_, h0⟩ | ⟨g, cap', cur, he, _⟩
  · omega
  · injection he with e1 _ _
    exact ⟨g, e1⟩

theorem byte_one (n : Nat) (h : n ≤ 255) : pbl n 1 1 = [(n : Int)] := by
  simp [pbl, byteOf]
  omega

set_option maxRecDepth 10000 in
set_option maxHeartbeats 3200000 in
theorem specPutF_yes (K F S : Nat) (a : Option Addr) (len cap M : Nat) (zs : List Int) (w : World) (hs : Seg w a len zs) (hl : len ≤ 1000) (hK : K ≤ 255) (hF : F ≤ 255) (hS : S ≤ 2147483647) (hM : M = 9 + len) :
    Calls Tryz.prog 26 #[.agg #[.int .i64 K, .int .i64 F, .int .i64 S, .slice a len cap]] w fun e w' => ∃ a' cap', e = .returned (.slice a' M cap') ∧ Owns w' w.heap.size a' M cap' (headB K F S len ++ zs) ∧ Below w.heap.size w w' := by
  obtain ⟨i0, hi, hz0, hz1, hz2⟩ := info_parts Tryz.info5
  have hzl : zs.length = len := hs.1
  have HS : Hid (Seg w a len zs) := hs
  have HB0 : Hid (Below w.heap.size w (w.alloc (.cells #[.int .i64 K, .int .i64 F, .int .i64 S, .slice a len cap] 55))) := (Below.refl _ _).alloc (Nat.le_refl _) _
  have HOk : Hid (okF K F S len = true) := decide_eq_true ⟨⟨by omega, by omega⟩, ⟨by omega, by omega⟩, ⟨by omega, by omega⟩, hl⟩
  have HM : Hid (M = 9 + len) := hM
  have hKi : (K : Int) ≤ 255 := by omega
  have hFi : (F : Int) ≤ 255 := by omega
  have hwK : IntKind.u8.wrap (K : Int) = (K : Int) := by rw [IntKind.wrap_u8]; omega
  have hwF : IntKind.u8.wrap (F : Int) = (F : Int) := by rw [IntKind.wrap_u8]; omega
  clear hs hM
  go_enter Tryz.func26, Tryz.ntmps26
  go_wp2_with fail
  refine (specFrOk_any K F S a len cap _).mono ?_
  rintro e x1 ⟨rfl, hb1⟩
  rw [HOk.out]
  have HB1 : Hid (Below w.heap.size w x1) := HB0.out.trans (hb1.mono HB0.out.size)
  have HX1 : Hid (Box4 x1 w.heap.size 55 (.int .i64 K) (.int .i64 F) (.int .i64 S) (.slice a len cap)) := (Box4.new _ _ _ _ _ _).stays hb1
  clear hb1
  obtain ⟨q0, q1, q2, q3⟩ := HX1.out.cells
  have hlt1 : w.heap.size < x1.heap.size := HX1.out.lt
  have hlt1a : ¬ w.heap.size = x1.heap.size := by omega
  have hlt1b : ¬ w.heap.size = x1.heap.size + 1 := by omega
  go_wp2_with fail
  go_region_held3 (fun W => W.cell? ⟨w.heap.size, 0, none⟩ = some (.int .i64 K) ∧ W.cell? ⟨w.heap.size, 1, none⟩ = some (.int .i64 F) ∧ W.cell? ⟨w.heap.size, 3, none⟩ = some (.slice a len cap)) (first | (refine ⟨?_, ?_, ?_⟩ <;> assumption) | go_keep) (first
    | (go_at_call 50; refine (specPut_to _ 0 0 0 len 3 3 [] _ ⟨rfl, by simp, .inl rfl⟩ (by first | (simp; done) | (simp; omega)) (by omega) (by omega) (by omega) (by omega) rfl).mono ?_; rintro e x2 ⟨a2, c2, rfl, ho2, hb2⟩
       have hbb : Below x1.heap.size x1 x2 := by first | exact ((Below.refl x1.heap.size x1).drew.alloc (Nat.le_refl _) _).trans (hb2.mono (by simp)) | exact (((Below.refl x1.heap.size x1).drew.alloc (Nat.le_refl _) _).alloc (by simp) _).trans (hb2.mono (by simp; omega))
       obtain ⟨r0, r1, r2, r3⟩ := (HX1.out.stays hbb).cells
       have hlt2 : w.heap.size < x2.heap.size := (HX1.out.stays hbb).lt
       have hlt2a : ¬ w.heap.size = x2.heap.size := (by omega)
       first
         | have HT : Hid (TwoAt x2 x1.heap.size K F) := TwoAt.stays (W := ((x1.alloc (.cells #[.int .u8 K, .int .u8 F] 5)).alloc (.cells #[] 5)).drew) ((TwoAt.new x1 K F).alloc _) hb2
         | have HT : Hid (TwoAt x2 (x1.heap.size + 1) K F) := (by show TwoAt _ _ _ _; have h := TwoAt.stays (W := ((x1.alloc (.cells #[] 5)).alloc (.cells #[.int .u8 K, .int .u8 F] 5)).drew) (TwoAt.new (x1.alloc (.cells #[] 5)) K F) hb2; simpa using h)
         | have HT : Hid (TwoAt (x2.alloc (.cells #[.int .u8 K, .int .u8 F] 5)) x2.heap.size K F) := TwoAt.new x2 K F
         | fail)
    | (first
         | (refine step_append_own rfl (.tmp 12) (.tmp 19) 27 rfl x1.heap.size 5 i0 (.int .u8 0) 1 1 Tryz.underlying27 hi hz0 hz1 hz2 rfl (by decide) (.slice a2 3 c2) 3 _ rfl ((own_low ho2.1 (by simp; try omega)).alloc _) ⟨x2.heap.size, 0, none⟩ 2 2 [.int .u8 K, .int .u8 F] rfl rfl HT.out.cells (ints_one [(K : Int), (F : Int)]) (by unfold maxLen; omega) (by omega) (by have := hbb.size; simp; omega) ?_; intro v3 x3 hown3 hgrow3
            have hbb3 : Below x1.heap.size x1 x3 := (hbb.alloc hbb.size _).grown hgrow3 (by have := hbb.size; simp; omega) (fun k hk => by have := (own_low ho2.1 (b' := x1.heap.size) (by simp; try omega)).lt k hk; omega))
         | (refine step_append_own rfl (.tmp 12) (.tmp 19) 27 rfl x1.heap.size 5 i0 (.int .u8 0) 1 1 Tryz.underlying27 hi hz0 hz1 hz2 rfl (by decide) (.slice a2 3 c2) 3 _ rfl (own_low ho2.1 (by simp; try omega)) ⟨x1.heap.size, 0, none⟩ 2 2 [.int .u8 K, .int .u8 F] rfl rfl HT.out.cells (ints_one [(K : Int), (F : Int)]) (by unfold maxLen; omega) (by omega) hbb.size ?_; intro v3 x3 hown3 hgrow3
            have hbb3 : Below x1.heap.size x1 x3 := hbb.grown hgrow3 hbb.size (fun k hk => by have := (own_low ho2.1 (b' := x1.heap.size) (by simp; try omega)).lt k hk; omega))
         | (refine step_append_own rfl (.tmp 12) (.tmp 19) 27 rfl x1.heap.size 5 i0 (.int .u8 0) 1 1 Tryz.underlying27 hi hz0 hz1 hz2 rfl (by decide) (.slice a2 3 c2) 3 _ rfl (own_low ho2.1 (by simp; try omega)) ⟨x1.heap.size + 1, 0, none⟩ 2 2 [.int .u8 K, .int .u8 F] rfl rfl HT.out.cells (ints_one [(K : Int), (F : Int)]) (by unfold maxLen; omega) (by omega) hbb.size ?_; intro v3 x3 hown3 hgrow3
            have hbb3 : Below x1.heap.size x1 x3 := hbb.grown hgrow3 hbb.size (fun k hk => by have := (own_low ho2.1 (b' := x1.heap.size) (by simp; try omega)).lt k hk; omega))
         | fail
       obtain ⟨s0, s1, s2, s3⟩ := (HX1.out.stays hbb3).cells)
    | fail)
  all_goals
    obtain ⟨a3, c3, rfl⟩ := shape_of_owns hown3
    have HO3 : Hid (Owns x3 x1.heap.size a3 5 c3 (pbl len 3 3 ++ pbl K 1 1 ++ pbl F 1 1)) := by
      refine ⟨?_, ?_⟩
      · rw [byte_one K hK, byte_one F hF]
        simpa using hown3
      · intro x hx
        simp only [List.mem_append] at hx
        rcases hx with (hx | hx) | hx <;> exact pbl_range _ _ _ x hx
    have HBB3 : Hid (Below x1.heap.size x1 x3) := hbb3
    have HX3 : Hid (Box4 x3 w.heap.size 55 (.int .i64 K) (.int .i64 F) (.int .i64 S) (.slice a len cap)) := HX1.out.stays hbb3
    obtain ⟨g3, rfl⟩ := HO3.out.someF (by omega)
    have hg3 := (HO3.out.lt g3 rfl).2
    clear hown3 hgrow3 hbb3 hbb r0 r1 r2 r3 s0 s1 s2 s3 hlt2 hlt2a ho2 hb2 q0 q1 q2 q3
    try clear HT
    obtain ⟨q0, q1, q2, q3⟩ := HX3.out.cells
    go_wp2_with fail
    go_region_held3 (fun W => W.cell? ⟨w.heap.size, 2, none⟩ = some (.int .i64 S) ∧ W.cell? ⟨w.heap.size, 3, none⟩ = some (.slice a len cap)) (refine ⟨?_, ?_⟩ <;> assumption) (first
      | (go_at_call 50; refine (specPut_to g3 0 5 c3 S 4 9 _ _ (HO3.out.seg.below (Below.refl _ _).drew) hg3 (by omega) (by omega) (by omega) (by omega) rfl).mono ?_; rintro e x4 ⟨a4, c4, rfl, ho4, hb4⟩
         have hbb4 : Below x3.heap.size x3 x4 := (Below.refl x3.heap.size x3).drew.trans (hb4.mono (by simp))
         obtain ⟨g4, rfl⟩ := ho4.someF (by omega)
         obtain ⟨r0, r1, r2, r3⟩ := (HX3.out.stays hbb4).cells
         have hs4 : Seg x4 a len zs := HS.out.below (HB1.out.trans ((HBB3.out.trans (hbb4.mono HBB3.out.size)).mono HB1.out.size)))
      | (refine step_append_src rfl (.tmp 24) (.tmp 26) 27 rfl x3.heap.size 5 i0 (.int .u8 0) 1 1 Tryz.underlying27 hi hz0 hz1 hz2 rfl (by decide) g4 9 c4 _ rfl (own_low ho4.1 (by simp)) a len cap (zs.map (Value.int .u8)) rfl (seg_nil hs4) (by simp [hzl]) (seg_src hs4) (ints_one zs) (by unfold maxLen; omega) (by omega) hbb4.size ?_; intro v5 x5 hown5 hgrow5
         have hbb5 : Below x3.heap.size x3 x5 := hbb4.grown hgrow5 hbb4.size (fun k hk => by have := (own_low ho4.1 (b' := x3.heap.size) (by simp)).lt k hk; omega)
         obtain ⟨s0, s1, s2, s3⟩ := (HX3.out.stays hbb5).cells)
      | fail)
    obtain ⟨a5, c5, rfl⟩ := shape_of_owns hown5
    have HO5 : Hid (Owns x5 w.heap.size a5 (9 + len) c5 (headB K F S len ++ zs)) := by
      refine ⟨own_low (base := x3.heap.size) ?_ (by have := HX3.out.lt; omega), ?_⟩
      · rw [headB, List.map_append]
        exact hown5
      · intro x hx
        rcases List.mem_append.1 hx with hx | hx
        · exact headB_range K F S len x hx
        · exact HS.out.2.1 x hx
    have HB5 : Hid (Below w.heap.size w x5) := HB1.out.trans ((HBB3.out.trans (hbb5.mono HBB3.out.size)).mono HB1.out.size)
    clear hown5 hgrow5 hbb5 hbb4 ho4 hb4 hs4 r0 r1 r2 r3 s0 s1 s2 s3 q0 q1 q2 q3
    go_wp2_with fail
    go_ret
    obtain rfl := HM.out
    exact ⟨_, _, rfl, HO5.out, HB5.out⟩

set_option maxHeartbeats 800000 in
theorem specPutF_no (k f s : Int) (a : Option Addr) (len cap : Nat) (w : World) (h : okF k f s len = false) :
    Calls Tryz.prog 26 #[.agg #[.int .i64 k, .int .i64 f, .int .i64 s, .slice a len cap]] w fun e w' => ∃ a' cap', e = .returned (.slice a' 0 cap') ∧ Owns w' w.heap.size a' 0 cap' [] ∧ Below w.heap.size w w' := by
  have HB0 : Hid (Below w.heap.size w (w.alloc (.cells #[.int .i64 k, .int .i64 f, .int .i64 s, .slice a len cap] 55))) := (Below.refl _ _).alloc (Nat.le_refl _) _
  have HOk : Hid (okF k f s len = false) := h
  clear h
  go_enter Tryz.func26, Tryz.ntmps26
  go_wp2_with fail
  refine (specFrOk_any k f s a len cap _).mono ?_
  rintro e x1 ⟨rfl, hb1⟩
  rw [HOk.out]
  have HB1 : Hid (Below w.heap.size w x1) := HB0.out.trans (hb1.mono HB0.out.size)
  clear hb1
  go_wp2_with fail
  go_ret
  exact ⟨_, _, rfl, ⟨World.ownsRow_lit _ #[] 0 HB1.out.size (Nat.zero_le _) rfl, by simp⟩, HB1.out.alloc HB1.out.size _⟩

theorem specPutFr_any (k f s : Int) (a : Option Addr) (len cap : Nat) (zs : List Int) (w : World) (hs : Seg w a len zs) :
    Calls Tryz.prog 26 #[.agg #[.int .i64 k, .int .i64 f, .int .i64 s, .slice a len cap]] w fun e w' => ∃ a' cap', e = .returned (.slice a' (putF k f s zs).length cap') ∧ Owns w' w.heap.size a' (putF k f s zs).length cap' (putF k f s zs) ∧ Below w.heap.size w w' := by
  have hz := hs.1
  cases h : okF k f s len with
  | false =>
    have e : putF k f s zs = [] := by unfold putF; rw [hz, h]; rfl
    rw [e]
    exact specPutF_no k f s a len cap w h
  | true =>
    have e : putF k f s zs = headB k.toNat f.toNat s.toNat len ++ zs := by unfold putF; rw [hz, h]; rfl
    have hy := okF_yes h
    obtain ⟨K, rfl⟩ := Int.eq_ofNat_of_zero_le hy.1.1
    obtain ⟨F, rfl⟩ := Int.eq_ofNat_of_zero_le hy.2.1.1
    obtain ⟨S, rfl⟩ := Int.eq_ofNat_of_zero_le hy.2.2.1.1
    rw [e, Int.toNat_natCast, Int.toNat_natCast, Int.toNat_natCast]
    exact specPutF_yes K F S a len cap _ zs w hs (by omega) (by omega) (by omega) (by omega) (by rw [List.length_append, headB_len, hz])

end Go.Proofs.YtbaijmkghgnleaaGreatDoor

namespace Go.Proofs.YtbaijmkghgnleaaGreatDoor
open Go.RowKit
set_option linter.unusedVariables false

set_option maxRecDepth 10000 in
set_option maxHeartbeats 3200000 in
theorem specPutFrs_any (a : Option Addr) (n c : Nat) (l : List FE) (w : World) (h : FrIn w a n l) (hn : n ≤ 1099511627776) (hB : (bytesF (l.map FE.data)).length ≤ 1099511627776) :
    Calls Tryz.prog 24 #[.slice a n c] w fun e w' => (∃ a' c', e = .returned (.slice a' (bytesF (l.map FE.data)).length c') ∧ Owns w' w.heap.size a' (bytesF (l.map FE.data)).length c' (bytesF (l.map FE.data))) ∧ Below w.heap.size w w' := by
  obtain ⟨i0, hi, hz0, hz1, hz2⟩ := info_parts Tryz.info5
  have HF : Hid (FrIn w a n l) := h
  have HBt : Hid ((bytesF (l.map FE.data)).length ≤ 1099511627776) := hB
  obtain ⟨w1, hw1⟩ : ∃ w1, w.alloc (.cells #[] 5) = w1 := ⟨_, rfl⟩
  have HE : Hid (w.alloc (.cells #[] 5) = w1) := hw1
  have HO1 : Hid (Owns w1 w.heap.size (some ⟨w.heap.size, 0, none⟩) 0 0 []) := by
    show Owns _ _ _ _ _ _
    rw [← hw1]
    exact ⟨World.ownsRow_lit w #[] 0 (Nat.le_refl _) (Nat.zero_le _) rfl, by simp⟩
  have HB1 : Hid (Below w.heap.size w w1) := by show Below _ _ _; rw [← hw1]; exact (Below.refl _ _).alloc (Nat.le_refl _) _
  clear hw1 h hB
  go_enter Tryz.func24, Tryz.ntmps24
  go_upto_region 2 with fail
  rw [HE.out]
  clear HE
  obtain ⟨g0, hg0⟩ : ∃ g0, w.heap.size = g0 := ⟨_, rfl⟩
  have HG : Hid (w.heap.size = g0) := hg0
  rw [hg0] at HO1 HB1 ⊢
  clear hg0
  go_wp2_with fail
  go_loopw [3, 4] (fun q i wr => ∃ (j g c' : Nat), j ≤ n ∧ i = .int .i64 (j : Int) ∧ q = .slice (some ⟨g, 0, none⟩) (bytesF ((l.map FE.data).take j)).length c' ∧ Hid (Owns wr g0 (some ⟨g, 0, none⟩) (bytesF ((l.map FE.data).take j)).length c' (bytesF ((l.map FE.data).take j))) ∧ Hid (Below g0 w wr)) (fun _ i _ => n - (intOf i).toNat)
  case atStart => exact ⟨0, g0, 0, Nat.zero_le _, rfl, rfl, HO1, HB1⟩
  case round =>
    clear HO1 HB1
    obtain ⟨j, g, c', hj, rfl, rfl, HO, HB⟩ := hrel
    have HFr : Hid (FrIn wr a n l) := HF.out.below (by rw [HG.out]; exact HB.out)
    by_cases hlt : j < n
    · obtain ⟨b, off, e, rfl, hb, hle, h1, h2, h3, h4, h5⟩ := HFr.out.at hlt
      have HS : Hid (Seg wr e.a e.n e.zs) := h5
      have HD : Hid ((l.map FE.data)[j]? = some (e.k, e.f, e.s, e.zs)) := by show _ = _; rw [List.getElem?_map, hle]; rfl
      obtain ⟨k, f, s, ea, en, ec, ez⟩ := e
      dsimp only at h1 h2 h3 h4 HS HD
      have hji : (j : Int) < (n : Int) := by omega
      have HT : Hid (bytesF ((l.map FE.data).take (j + 1)) = bytesF ((l.map FE.data).take j) ++ putF k f s ez) := bytesF_take _ _ _ HD.out
      have HL : Hid ((bytesF ((l.map FE.data).take j)).length + (putF k f s ez).length ≤ 1099511627776) := by
        have h7 := bytesF_take_le (l.map FE.data) (j + 1)
        have h8 := HBt.out
        rw [HT.out, List.length_append] at h7
        show _ ≤ _
        omega
      clear hle h5 HD
      generalize bytesF ((l.map FE.data).take j) = P at *
      have HBb : Hid (Below wr.heap.size wr wr) := Below.refl _ _
      go_wp2_with fail
      refine (specPutFr_any k f s ea en ec ez wr (HS.out.below HBb.out)).mono ?_
      rintro e w2 ⟨a2, c2', rfl, ho2, hb2⟩
      have HC2 : Hid (Below g0 w w2) := (HB.out.trans ((HBb.out.trans (hb2.mono HBb.out.size)).mono (by have := HB.out.size; have := HG.out; omega)))
      have HO2 : Hid (Owns w2 g0 (some ⟨g, 0, none⟩) P.length c' P) := (HO.out.below HBb.out).below hb2
      have HR : Hid (∀ x ∈ P ++ putF k f s ez, 0 ≤ x ∧ x ≤ 255) := by
        intro x hx
        rcases List.mem_append.1 hx with h | h
        · exact HO.out.2 x h
        · exact ho2.2 x h
      obtain ⟨Q, hQ⟩ : ∃ Q, putF k f s ez = Q := ⟨_, rfl⟩
      rw [hQ] at ho2 HT HL HR ⊢
      obtain ⟨m, hm⟩ : ∃ m, Q.length = m := ⟨_, rfl⟩
      obtain ⟨p, hp⟩ : ∃ p, P.length = p := ⟨_, rfl⟩
      have HQl : Hid (Q.length = m ∧ P.length = p) := ⟨hm, hp⟩
      rw [hm] at ho2 HL ⊢
      rw [hp] at HO2 HL
      have HSrc : Hid (Src Tryz.prog 1 27 (.slice a2 m c2') m (Q.map (Value.int .u8)) w2) := by
        show Src _ _ _ _ _ _ _
        cases a2 with
        | none =>
          have h9 := seg_nil ho2.seg rfl
          subst h9
          obtain rfl : Q = [] := List.eq_nil_of_length_eq_zero hm
          exact Src.ofNil _ Tryz.underlying27 c2'
        | some ad => exact Src.ofSlice _ Tryz.underlying27 ad m c2' _ (by rw [List.length_map, hm]; omega) (seg_src ho2.seg ad rfl) (ints_one _)
      have hA : p + m ≤ maxLen := by have := HL.out; unfold maxLen; omega
      have hA2 : (p + m) * 1 ≤ 140737488355328 := by have := HL.out; omega
      have HBs : Hid (g0 ≤ w2.heap.size) := by have := HC2.out.size; have := HG.out; show _ ≤ _; omega
      clear ho2 hb2 hQ hm HO HB HBb HS
      rw [hp]
      clear hp
      go_wp2_with (at_builtin; refine wpList_append_got rfl _ _ 27 27 rfl g0 5 i0 (.int .u8 0) 1 1 Tryz.underlying27 hi hz0 hz1 hz2 rfl (by decide) g p c' (P.map (Value.int .u8)) rfl HO2.out.1 (.slice a2 m c2') m (Q.map (Value.int .u8)) rfl HSrc.out hA hA2 HBs.out ?_; intro g4 c4 w4 hown hgrow; refine Hid.out ?_)
      refine hidden ?_
      have HB4 : Hid (Below g0 w w4) := HC2.out.grown hgrow HBs.out (fun q e => by injection e with e; have := (HO2.out.lt g rfl).1; omega)
      have HO4 : Hid (Owns w4 g0 (some ⟨g4, 0, none⟩) (p + m) c4 (P ++ Q)) := by
        refine ⟨?_, HR.out⟩
        rw [List.map_append]
        exact hown
      clear hown hgrow HO2 HC2 HSrc HBs HR
      go_wp2_with fail
      go_roundw
      case rel => exact ⟨j + 1, g4, c4, by omega, by go_num, by rw [HT.out, List.length_append, HQl.out.1, HQl.out.2], by
        show Owns _ _ _ _ _ _
        rw [HT.out, List.length_append, HQl.out.1, HQl.out.2]
        exact HO4.out, HB4⟩
      case measure => simp [intOf]; omega
    · have hjn : j = n := by omega
      subst hjn
      have HAll : Hid ((l.map FE.data).take j = l.map FE.data) := List.take_of_length_le (by rw [List.length_map, HF.out.len]; exact Nat.le_refl _)
      rw [HAll.out] at HO ⊢
      go_wp2_with fail
      go_ret
      exact ⟨⟨_, _, rfl, by rw [HG.out]; exact HO.out⟩, by rw [HG.out]; exact HB.out⟩

end Go.Proofs.YtbaijmkghgnleaaGreatDoor

namespace Go.Proofs.YtbaijmkghgnleaaGreatDoor
open Go.RowKit
set_option linter.unusedVariables false

theorem seg_part {w : World} {b off len : Nat} {zs : List Int} (h : Seg w (some ⟨b, off, none⟩) len zs) (T n : Nat) (hT : T + n ≤ len) : Seg w (some ⟨b, off + T, none⟩) n ((zs.drop T).take n) := by
  have hl := h.1
  refine ⟨by rw [List.length_take, List.length_drop]; omega, fun x hx => h.2.1 x (List.mem_of_mem_drop (List.mem_of_mem_take hx)), ?_⟩
  rcases h.2.2 with h0 | ⟨b', off', e, hb, hc⟩
  · exact .inl (by omega)
  · simp only [Option.some.injEq, Addr.mk.injEq, and_true] at e
    obtain ⟨rfl, rfl⟩ := e
    refine .inr ⟨b, off + T, rfl, hb, fun i hi => ?_⟩
    rw [Nat.add_assoc, hc (T + i) (by omega)]
    rw [List.getD_eq_getElem?_getD, List.getD_eq_getElem?_getD, List.getElem?_take, if_pos hi, List.getElem?_drop]

theorem seg_empty {w : World} (a : Option Addr) : Seg w a 0 [] := ⟨rfl, by simp, .inl rfl⟩

theorem seg_some {w : World} {a : Option Addr} {len : Nat} {zs : List Int} (h : Seg w a len zs) (hl : 0 < len) : ∃ b off, a = some ⟨b, off, none⟩ ∧ w.cell? ⟨b, off, none⟩ = some (.int .u8 (zs.getD 0 0)) := by
  rcases h.2.2 with h0 | ⟨b, off, e, _, hc⟩
  · omega
  · exact ⟨b, off, e, by simpa using hc 0 hl⟩

/-- A piece of a list of bytes, by an address that may have stayed where it was if nothing is left. -/
theorem seg_cut {w : World} {b off len : Nat} {zs : List Int} (h : Seg w (some ⟨b, off, none⟩) len zs) (T n o : Nat) (hT : T + n ≤ len) (ho : o = off + T ∨ n = 0) : Seg w (some ⟨b, o, none⟩) n ((zs.drop T).take n) := by
  rcases ho with rfl | rfl
  · exact seg_part h T n hT
  · exact ⟨by simp, by simp, .inl rfl⟩

end Go.Proofs.YtbaijmkghgnleaaGreatDoor
