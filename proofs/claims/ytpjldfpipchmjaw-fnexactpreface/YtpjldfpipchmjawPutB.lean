/- What both programs' PutBig answer: the bytes and behind them those of the number, in memory of its own; nothing that was there is written. For lists of at most 2^40 bytes that are not nil. -/
import Derived.Test.YtpjldfpipchmjawL1In
namespace Go.Proofs.Ytpjldfpipchmjaw
open Go.RowKit
set_option linter.unusedVariables false

set_option maxRecDepth 10000 in
set_option maxHeartbeats 400000 in
theorem specPut_yes (b off len cap n k : Nat) (zs : List Int) (w : World) (hs : Seg w (some ⟨b, off, none⟩) len zs) (hb : b < w.heap.size) (hl : len ≤ 1099511627776) (hn : n ≤ 9223372036854775807) (h1 : 1 ≤ k) (h8 : k ≤ 8) :
    Calls Try.prog 12 #[.slice (some ⟨b, off, none⟩) len cap, .int .i64 n, .int .i64 k] w fun e w' => ∃ a' cap', e = .returned (.slice a' (len + k) cap') ∧ Owns w' w.heap.size a' (len + k) cap' (zs ++ pbl n k k) ∧ Below w.heap.size w w' := by
  obtain ⟨i0, hi, hz0, hz1, hz2⟩ := info_parts Try.info5
  have HS : Hid (Seg w (some ⟨b, off, none⟩) len zs) := hs
  have hzl : zs.length = len := hs.1
  have hS1 : Hid (Seg (w.alloc (.cells #[] 5)) (some ⟨b, off, none⟩) len zs) := hs.below ((Below.refl _ _).alloc (Nat.le_refl _) _)
  have hO1 : Hid ((w.alloc (.cells #[] 5)).ownsRow w.heap.size 5 1 (.slice (some ⟨w.heap.size, 0, none⟩) 0 0) 0 []) := World.ownsRow_lit w #[] 0 (Nat.le_refl _) (Nat.zero_le _) rfl
  clear hs
  have hk1 : (1 : Int) ≤ (k : Int) := by omega
  have hk8 : (k : Int) ≤ 8 := by omega
  go_enter Try.func12, Try.ntmps12
  go_wp2_with (at_builtin; refine wpList_append_own _ rfl _ _ 22 rfl w.heap.size 5 i0 (.int .u8 0) 1 1 Try.underlying22 hi hz0 hz1 hz2 rfl (by decide) (.slice (some ⟨w.heap.size, 0, none⟩) 0 0) 0 [] rfl hO1.out ⟨b, off, none⟩ len cap (zs.map (Value.int .u8)) rfl (by simp [hzl]) (cells_ints hS1.out) (ints_one zs) (by unfold maxLen; omega) (by omega) (by simp) ?_; intro v1 w1 hown1 hgrow1 _; refine Hid.out ?_)
  refine hidden ?_
  have HO : Hid (w1.ownsRow w.heap.size 5 1 v1 (len + 0) ((zs ++ pbl n k 0).map (Value.int .u8))) := by
    show World.ownsRow _ _ _ _ _ _ _
    simpa [pbl] using hown1
  have HB : Hid (Below w.heap.size w w1) := ((Below.refl _ _).alloc (Nat.le_refl _) _).grown hgrow1 (by simp) (by simp [Value.ownBlock])
  clear hown1 hgrow1 hO1 hS1
  go_wp2_with (go_at_call 15; refine (l1In_yes _ _ _ _ hk1 hk8).mono ?_; rintro e w' ⟨rfl, rfl⟩)
  go_loopw [7, 8] (fun v i wr => ∃ t : Nat, t ≤ k ∧ i = .int .i64 ((k : Int) - 1 - t) ∧ Hid (wr.ownsRow w.heap.size 5 1 v (len + t) ((zs ++ pbl n k t).map (Value.int .u8))) ∧ Hid (Below w.heap.size w wr)) (fun _ i _ => (intOf i + 1).toNat)
  case atStart => exact ⟨0, Nat.zero_le _, by go_num, HO, HB⟩
  case round =>
    clear HO HB
    obtain ⟨t, ht, rfl, HO, HB⟩ := hrel
    by_cases hlt : t < k
    · have hsz := HB.out.size
      have hone := one_new wr (byteOf n (k - 1 - t))
      have HN : Hid (∀ j u, [Value.int .u8 (byteOf n (k - 1 - t))][j]? = some u → (wr.alloc (.cells #[.int .u8 (byteOf n (k - 1 - t))] 5)).cell? ((⟨wr.heap.size, 0, none⟩ : Addr).add j) = some u) := hone
      clear hone
      go_wp2_with (at_builtin; refine wpList_append_own _ rfl _ _ 22 rfl w.heap.size 5 i0 (.int .u8 0) 1 1 Try.underlying22 hi hz0 hz1 hz2 rfl (by decide) u7 (len + t) _ rfl (HO.out.alloc _) ⟨wr.heap.size, 0, none⟩ 1 1 [.int .u8 (byteOf n (k - 1 - t))] rfl rfl HN.out (ints_one [byteOf n (k - 1 - t)]) (by unfold maxLen; omega) (by omega) (by simp; omega) ?_; intro v2 w2 hown2 hgrow2 _; refine Hid.out ?_)
      refine hidden ?_
      have HO2 : Hid (w2.ownsRow w.heap.size 5 1 v2 (len + (t + 1)) ((zs ++ pbl n k (t + 1)).map (Value.int .u8))) := by
        show World.ownsRow _ _ _ _ _ _ _
        rw [pbl_succ, ← List.append_assoc, List.map_append]
        exact hown2
      have HB2 : Hid (Below w.heap.size w w2) := (HB.out.alloc (by omega) _).grown hgrow2 (by simp; omega) (fun q hq => (HO.out.lt q hq).1)
      clear hown2 hgrow2 HN HO HB
      go_wp2
      go_roundw
      case rel => exact ⟨t + 1, by omega, by go_num, HO2, HB2⟩
      case measure => simp [intOf]; omega
    · have htk : t = k := by omega
      subst htk
      obtain ⟨a', cap', rfl⟩ := shape_of_owns HO.out
      go_wp2
      go_ret
      refine ⟨a', cap', rfl, ⟨HO.out, ?_⟩, HB.out⟩
      intro x hx
      rcases List.mem_append.1 hx with hx | hx
      · exact HS.out.2.1 x hx
      · exact pbl_range _ _ _ x hx

set_option maxRecDepth 10000 in
set_option maxHeartbeats 400000 in
theorem specPut_neg (b off len cap k : Nat) (n : Int) (zs : List Int) (w : World) (hs : Seg w (some ⟨b, off, none⟩) len zs) (hb : b < w.heap.size) (hl : len ≤ 1099511627776) (hn : n < 0) (h1 : 1 ≤ k) (h8 : k ≤ 8) :
    Calls Try.prog 12 #[.slice (some ⟨b, off, none⟩) len cap, .int .i64 n, .int .i64 k] w fun e w' => ∃ a' cap', e = .returned (.slice a' (len + k) cap') ∧ Owns w' w.heap.size a' (len + k) cap' (zs ++ pbl 0 k k) ∧ Below w.heap.size w w' := by
  obtain ⟨i0, hi, hz0, hz1, hz2⟩ := info_parts Try.info5
  have HS : Hid (Seg w (some ⟨b, off, none⟩) len zs) := hs
  have hzl : zs.length = len := hs.1
  have hS1 : Hid (Seg (w.alloc (.cells #[] 5)) (some ⟨b, off, none⟩) len zs) := hs.below ((Below.refl _ _).alloc (Nat.le_refl _) _)
  have hO1 : Hid ((w.alloc (.cells #[] 5)).ownsRow w.heap.size 5 1 (.slice (some ⟨w.heap.size, 0, none⟩) 0 0) 0 []) := World.ownsRow_lit w #[] 0 (Nat.le_refl _) (Nat.zero_le _) rfl
  clear hs
  have hk1 : (1 : Int) ≤ (k : Int) := by omega
  have hk8 : (k : Int) ≤ 8 := by omega
  go_enter Try.func12, Try.ntmps12
  go_wp2_with (at_builtin; refine wpList_append_own _ rfl _ _ 22 rfl w.heap.size 5 i0 (.int .u8 0) 1 1 Try.underlying22 hi hz0 hz1 hz2 rfl (by decide) (.slice (some ⟨w.heap.size, 0, none⟩) 0 0) 0 [] rfl hO1.out ⟨b, off, none⟩ len cap (zs.map (Value.int .u8)) rfl (by simp [hzl]) (cells_ints hS1.out) (ints_one zs) (by unfold maxLen; omega) (by omega) (by simp) ?_; intro v1 w1 hown1 hgrow1 _; refine Hid.out ?_)
  refine hidden ?_
  have HO : Hid (w1.ownsRow w.heap.size 5 1 v1 (len + 0) ((zs ++ pbl 0 k 0).map (Value.int .u8))) := by
    show World.ownsRow _ _ _ _ _ _ _
    simpa [pbl] using hown1
  have HB : Hid (Below w.heap.size w w1) := ((Below.refl _ _).alloc (Nat.le_refl _) _).grown hgrow1 (by simp) (by simp [Value.ownBlock])
  clear hown1 hgrow1 hO1 hS1
  go_wp2_with (go_at_call 15; refine (l1In_yes _ _ _ _ hk1 hk8).mono ?_; rintro e w' ⟨rfl, rfl⟩)
  go_loopw [7, 8] (fun v i wr => ∃ t : Nat, t ≤ k ∧ i = .int .i64 ((k : Int) - 1 - t) ∧ Hid (wr.ownsRow w.heap.size 5 1 v (len + t) ((zs ++ pbl 0 k t).map (Value.int .u8))) ∧ Hid (Below w.heap.size w wr)) (fun _ i _ => (intOf i + 1).toNat)
  case atStart => exact ⟨0, Nat.zero_le _, by go_num, HO, HB⟩
  case round =>
    clear HO HB
    obtain ⟨t, ht, rfl, HO, HB⟩ := hrel
    by_cases hlt : t < k
    · have hsz := HB.out.size
      have hone := one_new wr ((0 : Int))
      have HN : Hid (∀ j u, [Value.int .u8 ((0 : Int))][j]? = some u → (wr.alloc (.cells #[.int .u8 ((0 : Int))] 5)).cell? ((⟨wr.heap.size, 0, none⟩ : Addr).add j) = some u) := hone
      clear hone
      go_wp2_with (at_builtin; refine wpList_append_own _ rfl _ _ 22 rfl w.heap.size 5 i0 (.int .u8 0) 1 1 Try.underlying22 hi hz0 hz1 hz2 rfl (by decide) u7 (len + t) _ rfl (HO.out.alloc _) ⟨wr.heap.size, 0, none⟩ 1 1 [.int .u8 ((0 : Int))] rfl rfl HN.out (ints_one [(0 : Int)]) (by unfold maxLen; omega) (by omega) (by simp; omega) ?_; intro v2 w2 hown2 hgrow2 _; refine Hid.out ?_)
      refine hidden ?_
      have HO2 : Hid (w2.ownsRow w.heap.size 5 1 v2 (len + (t + 1)) ((zs ++ pbl 0 k (t + 1)).map (Value.int .u8))) := by
        show World.ownsRow _ _ _ _ _ _ _
        rw [pbl_succ, byteOf_zero, ← List.append_assoc, List.map_append]
        exact hown2
      have HB2 : Hid (Below w.heap.size w w2) := (HB.out.alloc (by omega) _).grown hgrow2 (by simp; omega) (fun q hq => (HO.out.lt q hq).1)
      clear hown2 hgrow2 HN HO HB
      go_wp2
      go_roundw
      case rel => exact ⟨t + 1, by omega, by go_num, HO2, HB2⟩
      case measure => simp [intOf]; omega
    · have htk : t = k := by omega
      subst htk
      obtain ⟨a', cap', rfl⟩ := shape_of_owns HO.out
      go_wp2
      go_ret
      refine ⟨a', cap', rfl, ⟨HO.out, ?_⟩, HB.out⟩
      intro x hx
      rcases List.mem_append.1 hx with hx | hx
      · exact HS.out.2.1 x hx
      · exact pbl_range _ _ _ x hx

set_option maxRecDepth 10000 in
set_option maxHeartbeats 400000 in
theorem specPut_no (b off len cap : Nat) (n k : Int) (zs : List Int) (w : World) (hs : Seg w (some ⟨b, off, none⟩) len zs) (hb : b < w.heap.size) (hl : len ≤ 1099511627776) (hk : k < 1 ∨ 8 < k) :
    Calls Try.prog 12 #[.slice (some ⟨b, off, none⟩) len cap, .int .i64 n, .int .i64 k] w fun e w' => ∃ a' cap', e = .returned (.slice a' len cap') ∧ Owns w' w.heap.size a' len cap' (zs) ∧ Below w.heap.size w w' := by
  obtain ⟨i0, hi, hz0, hz1, hz2⟩ := info_parts Try.info5
  have HS : Hid (Seg w (some ⟨b, off, none⟩) len zs) := hs
  have hzl : zs.length = len := hs.1
  have hS1 : Hid (Seg (w.alloc (.cells #[] 5)) (some ⟨b, off, none⟩) len zs) := hs.below ((Below.refl _ _).alloc (Nat.le_refl _) _)
  have hO1 : Hid ((w.alloc (.cells #[] 5)).ownsRow w.heap.size 5 1 (.slice (some ⟨w.heap.size, 0, none⟩) 0 0) 0 []) := World.ownsRow_lit w #[] 0 (Nat.le_refl _) (Nat.zero_le _) rfl
  clear hs
  have HK : Hid (k < 1 ∨ 8 < k) := hk
  clear hk
  go_enter Try.func12, Try.ntmps12
  go_wp2_with (at_builtin; refine wpList_append_own _ rfl _ _ 22 rfl w.heap.size 5 i0 (.int .u8 0) 1 1 Try.underlying22 hi hz0 hz1 hz2 rfl (by decide) (.slice (some ⟨w.heap.size, 0, none⟩) 0 0) 0 [] rfl hO1.out ⟨b, off, none⟩ len cap (zs.map (Value.int .u8)) rfl (by simp [hzl]) (cells_ints hS1.out) (ints_one zs) (by unfold maxLen; omega) (by omega) (by simp) ?_; intro v1 w1 hown1 hgrow1 _; refine Hid.out ?_)
  refine hidden ?_
  have HO : Hid (w1.ownsRow w.heap.size 5 1 v1 len (zs.map (Value.int .u8))) := by
    show World.ownsRow _ _ _ _ _ _ _
    simpa using hown1
  have HB : Hid (Below w.heap.size w w1) := ((Below.refl _ _).alloc (Nat.le_refl _) _).grown hgrow1 (by simp) (by simp [Value.ownBlock])
  clear hown1 hgrow1 hO1 hS1
  obtain ⟨a', cap', rfl⟩ := shape_of_owns HO.out
  by_cases hn0 : n < 0
  all_goals
    go_wp2_with (go_at_call 15; refine (l1In_no _ _ _ _ HK.out).mono ?_; rintro e w' ⟨rfl, rfl⟩)
    go_ret
    exact ⟨a', cap', rfl, ⟨HO.out, HS.out.2.1⟩, HB.out⟩

theorem specPut_any (b off len cap : Nat) (n k : Int) (zs : List Int) (w : World) (hs : Seg w (some ⟨b, off, none⟩) len zs) (hb : b < w.heap.size) (hl : len ≤ 1099511627776) (hn : n ≤ 9223372036854775807) :
    Calls Try.prog 12 #[.slice (some ⟨b, off, none⟩) len cap, .int .i64 n, .int .i64 k] w fun e w' => ∃ a' cap', e = .returned (.slice a' (pb zs n k).length cap') ∧ Owns w' w.heap.size a' (pb zs n k).length cap' (pb zs n k) ∧ Below w.heap.size w w' := by
  have hz := hs.1
  by_cases hk : 1 ≤ k ∧ k ≤ 8
  · obtain ⟨K, rfl⟩ := Int.eq_ofNat_of_zero_le (show 0 ≤ k by omega)
    have e : pb zs n K = zs ++ pbl n.toNat K K := by rw [pb, if_pos hk, Int.toNat_natCast]
    have el : (zs ++ pbl n.toNat K K).length = len + K := by rw [List.length_append, pbl_len, hz]
    rw [e, el]
    by_cases h0 : n < 0
    · rw [show n.toNat = 0 by omega]
      exact specPut_neg b off len cap K n zs w hs hb hl h0 (by omega) (by omega)
    · obtain ⟨M, rfl⟩ := Int.eq_ofNat_of_zero_le (show 0 ≤ n by omega)
      rw [Int.toNat_natCast]
      exact specPut_yes b off len cap M K zs w hs hb hl (by omega) (by omega) (by omega)
  · have e : pb zs n k = zs := by rw [pb, if_neg hk, List.append_nil]
    rw [e, hz]
    exact specPut_no b off len cap n k zs w hs hb hl (by omega)

end Go.Proofs.Ytpjldfpipchmjaw
