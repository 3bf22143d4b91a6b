/- What the program's PutBig answers: the bytes and behind them those of the number, in memory of its own; nothing that was there is written. For lists of at most 2^40 bytes that are not nil. -/
import Derived.Test.YtpjldfpipchmjawSmall
import Derived.Test.YtpjldfpipchmjawMadeRoom
namespace Go.Proofs.Ytpjldfpipchmjaw
open Go.RowKit
set_option linter.unusedVariables false

/-- 'copy' of bytes into a new row that is at least as long. -/
theorem copy_bytes (w1 : World) (g len c b off cap : Nat) (zs : List Int) (hs : Seg w1 (some ⟨b, off, none⟩) len zs) (hg : w1.heap[g]? = some (.cells (List.replicate c (Value.int .u8 0)).toArray 5 (0, 0))) (hc : len ≤ c) (w : World) (hb : Below g w w1) :
    ∃ w2, (Builtin.copy_ #[22, 22] 3 #[.slice (some ⟨g, 0, none⟩) len c, .slice (some ⟨b, off, none⟩) len cap]).run Try.prog w1 = .ok (.int .i64 len) w2 ∧
      w2.heap[g]? = some (.cells (zs.map (Value.int .u8) ++ List.replicate (c - len) (Value.int .u8 0)).toArray 5 (0, 0)) ∧ Below g w w2 := by
  obtain ⟨i0, hi, hz0, hz1, hz2⟩ := info_parts Try.info5
  have hzl : zs.length = len := hs.1
  have hr := run_copy_row (P := Try.prog) w1 22 22 3 5 g 0 len c ⟨b, off, none⟩ len cap _ 5 (zs.map (Value.int .u8)) Try.underlying22 (by rw [hi]; simp [hz1]) hg (by simp [hzl]) (cells_ints hs) (by simp [hzl]; omega) (ints_one zs)
  have hr2 : (Builtin.copy_ #[22, 22] 3 #[.slice (some ⟨g, 0, none⟩) len c, .slice (some ⟨b, off, none⟩) len cap]).run Try.prog w1 = .ok (.int .i64 len) (w1.setRow g (zs.map (Value.int .u8) ++ List.replicate (c - len) (Value.int .u8 0)).toArray) := by
    rw [hr]; simp [goInt, hzl]
  exact ⟨_, hr2, setRow_heap w1 g _ _ 5 _ hg, below_setRow hb (Nat.le_refl _) _⟩

theorem copy_any (w1 : World) (g len c : Nat) (sa : Option Addr) (cap : Nat) (zs : List Int) (hs : Seg w1 sa len zs) (hg : w1.heap[g]? = some (.cells (List.replicate c (Value.int .u8 0)).toArray 5 (0, 0))) (hc : len ≤ c) (w : World) (hb : Below g w w1) :
    ∃ w2, (Builtin.copy_ #[22, 22] 3 #[.slice (some ⟨g, 0, none⟩) len c, .slice sa len cap]).run Try.prog w1 = .ok (.int .i64 len) w2 ∧
      w2.heap[g]? = some (.cells (zs.map (Value.int .u8) ++ List.replicate (c - len) (Value.int .u8 0)).toArray 5 (0, 0)) ∧ Below g w w2 := by
  rcases hs.2.2 with h | ⟨b, off, rfl, _⟩
  · subst h
    obtain rfl : zs = [] := List.eq_nil_of_length_eq_zero hs.1
    refine ⟨w1, ?_, by simpa using hg, hb⟩
    obtain ⟨i0, hi, hz0, hz1, hz2⟩ := info_parts Try.info5
    cases sa with
    | none => simp [Builtin.copy_, run_underlying Try.underlying22, sizeOf, typeInfo, hi, Builtin.lenOf, Builtin.firstCells, storeCells, goInt]
    | some ad => simp [Builtin.copy_, run_underlying Try.underlying22, sizeOf, typeInfo, hi, Builtin.lenOf, Builtin.firstCells, loadCells, loadCellsFrom, storeCells, goInt]
  · exact copy_bytes w1 g len c b off cap zs hs hg hc w hb

set_option maxRecDepth 10000 in
set_option maxHeartbeats 400000 in
theorem implPut_yes (sa : Option Addr) (len cap n k : Nat) (zs : List Int) (w : World) (hs : Seg w sa len zs) (hl : len ≤ 1099511627776) (hn : n ≤ 9223372036854775807) (h1 : 1 ≤ k) (h8 : k ≤ 8) :
    Calls Try.prog 17 #[.slice sa len cap, .int .i64 n, .int .i64 k] w fun e w' => ∃ a' cap', e = .returned (.slice a' (len + k) cap') ∧ Owns w' w.heap.size a' (len + k) cap' (zs ++ pbl n k k) ∧ Below w.heap.size w w' := by
  obtain ⟨i0, hi, hz0, hz1, hz2⟩ := info_parts Try.info5
  have HS : Hid (Seg w sa len zs) := hs
  have hzl : zs.length = len := hs.1
  clear hs
  have hk1 : (1 : Int) ≤ (k : Int) := by omega
  have hk8 : (k : Int) ≤ 8 := by omega
  have hn0 : (0 : Int) ≤ (n : Int) := by omega
  have hd1 : decide ((k : Int) < 1) = false := by simp; omega
  have hd2 : decide ((8 : Int) < (k : Int)) = false := by simp; omega
  go_enter Try.func17, Try.ntmps17
  go_wp2_with (first | (at_make; refine wpList_make_room _ rfl _ _ 22 rfl 5 i0 (.int .u8 0) Try.underlying22 hi hz0 hz1 rfl hz2 _ _ _ _ len (len + k) rfl rfl rfl (by omega) (by omega) (by omega) ?_; intro w1 hg1 hb1; refine Hid.out ?_))
  refine hidden ?_
  have HG1 : Hid (w1.heap[w.heap.size]? = some (.cells (List.replicate (len + k) (Value.int .u8 0)).toArray 5 (0, 0))) := hg1
  have HB1 : Hid (Below w.heap.size w w1) := hb1
  clear hg1 hb1
  have HS1 : Hid (Seg w1 sa len zs) := HS.out.below HB1.out
  obtain ⟨w2, hrun, hg2, hb2⟩ := copy_any w1 w.heap.size len (len + k) sa cap zs HS1.out HG1.out (by omega) w HB1.out
  go_wp2
  clear hrun
  have HO : Hid (w2.ownsRow w.heap.size 5 1 (.slice (some ⟨w.heap.size, 0, none⟩) len (len + k)) (len + 0) ((zs ++ pbl n k 0).map (Value.int .u8))) := by
    show World.ownsRow _ _ _ _ _ _ _
    have h := own_of_row hg2 (base := w.heap.size) (Nat.le_refl _) (n := len) (c := len + k) (by simp [hzl]) (by omega) (by unfold maxLen; omega)
    simpa [pbl, hzl] using h
  have HB : Hid (Below w.heap.size w w2) := hb2
  clear hg2 hb2 HG1 HB1 HS1
  go_loopw [7, 8] (fun v i wr => ∃ t : Nat, t ≤ k ∧ i = .int .i64 (8 * ((k : Int) - 1 - t)) ∧ Hid (wr.ownsRow w.heap.size 5 1 v (len + t) ((zs ++ pbl n k t).map (Value.int .u8))) ∧ Hid (Below w.heap.size w wr)) (fun _ i _ => (intOf i + 8).toNat)
  case atStart => exact ⟨0, Nat.zero_le _, by go_num, HO, HB⟩
  case round =>
    clear HO HB
    obtain ⟨t, ht, rfl, HO, HB⟩ := hrel
    by_cases hlt : t < k
    · have hsz := HB.out.size
      have HN : Hid (∀ j u, [Value.int .u8 (byteOf n (k - 1 - t))][j]? = some u → (wr.alloc (.cells #[.int .u8 (byteOf n (k - 1 - t))] 5)).cell? ((⟨wr.heap.size, 0, none⟩ : Addr).add j) = some u) := one_new wr (byteOf n (k - 1 - t))
      go_wp2_with (at_builtin; refine wpList_append_own _ rfl _ _ 22 rfl w.heap.size 5 i0 (.int .u8 0) 1 1 Try.underlying22 hi hz0 hz1 hz2 rfl (by decide) u7 (len + t) _ rfl (HO.out.alloc _) ⟨wr.heap.size, 0, none⟩ 1 1 [.int .u8 (byteOf n (k - 1 - t))] rfl rfl HN.out (ints_one [byteOf n (k - 1 - t)]) (by unfold maxLen; omega) (by omega) (by simp; omega) ?_; intro v2 w2 hown2 hgrow2 _; refine Hid.out ?_)
      refine hidden ?_
      have HO2 : Hid (w2.ownsRow w.heap.size 5 1 v2 (len + (t + 1)) ((zs ++ pbl n k (t + 1)).map (Value.int .u8))) := by
        show World.ownsRow _ _ _ _ _ _ _
        rw [pbl_succ, ← List.append_assoc, List.map_append]
        exact hown2
      have HB2 : Hid (Below w.heap.size w w2) := (HB.out.alloc (by omega) _).grown hgrow2 (by simp; omega) (fun q hq => (HO.out.lt q hq).1)
      clear hown2 hgrow2 HN HO HB
      go_wp2
      go_roundw
      case rel => exact ⟨t + 1, by omega, by go_num, HO2, HB2⟩
      case measure => simp [intOf]; omega
    · have htk : t = k := by omega
      subst htk
      obtain ⟨a', cap', rfl⟩ := shape_of_owns HO.out
      go_wp2
      go_ret
      refine ⟨a', cap', rfl, ⟨HO.out, ?_⟩, HB.out⟩
      intro x hx
      rcases List.mem_append.1 hx with hx | hx
      · exact HS.out.2.1 x hx
      · exact pbl_range _ _ _ x hx

set_option maxRecDepth 10000 in
set_option maxHeartbeats 400000 in
theorem implPut_neg (sa : Option Addr) (len cap k : Nat) (n : Int) (zs : List Int) (w : World) (hs : Seg w sa len zs) (hl : len ≤ 1099511627776) (hn : n < 0) (h1 : 1 ≤ k) (h8 : k ≤ 8) :
    Calls Try.prog 17 #[.slice sa len cap, .int .i64 n, .int .i64 k] w fun e w' => ∃ a' cap', e = .returned (.slice a' (len + k) cap') ∧ Owns w' w.heap.size a' (len + k) cap' (zs ++ pbl 0 k k) ∧ Below w.heap.size w w' := by
  obtain ⟨i0, hi, hz0, hz1, hz2⟩ := info_parts Try.info5
  have HS : Hid (Seg w sa len zs) := hs
  have hzl : zs.length = len := hs.1
  clear hs
  have hk1 : (1 : Int) ≤ (k : Int) := by omega
  have hk8 : (k : Int) ≤ 8 := by omega
  have hd1 : decide ((k : Int) < 1) = false := by simp; omega
  have hd2 : decide ((8 : Int) < (k : Int)) = false := by simp; omega
  go_enter Try.func17, Try.ntmps17
  go_wp2_with (first | (at_make; refine wpList_make_room _ rfl _ _ 22 rfl 5 i0 (.int .u8 0) Try.underlying22 hi hz0 hz1 rfl hz2 _ _ _ _ len (len + k) rfl rfl rfl (by omega) (by omega) (by omega) ?_; intro w1 hg1 hb1; refine Hid.out ?_))
  refine hidden ?_
  have HG1 : Hid (w1.heap[w.heap.size]? = some (.cells (List.replicate (len + k) (Value.int .u8 0)).toArray 5 (0, 0))) := hg1
  have HB1 : Hid (Below w.heap.size w w1) := hb1
  clear hg1 hb1
  have HS1 : Hid (Seg w1 sa len zs) := HS.out.below HB1.out
  obtain ⟨w2, hrun, hg2, hb2⟩ := copy_any w1 w.heap.size len (len + k) sa cap zs HS1.out HG1.out (by omega) w HB1.out
  go_wp2
  clear hrun
  have HO : Hid (w2.ownsRow w.heap.size 5 1 (.slice (some ⟨w.heap.size, 0, none⟩) len (len + k)) (len + 0) ((zs ++ pbl 0 k 0).map (Value.int .u8))) := by
    show World.ownsRow _ _ _ _ _ _ _
    have h := own_of_row hg2 (base := w.heap.size) (Nat.le_refl _) (n := len) (c := len + k) (by simp [hzl]) (by omega) (by unfold maxLen; omega)
    simpa [pbl, hzl] using h
  have HB : Hid (Below w.heap.size w w2) := hb2
  clear hg2 hb2 HG1 HB1 HS1
  go_loopw [7, 8] (fun v i wr => ∃ t : Nat, t ≤ k ∧ i = .int .i64 (8 * ((k : Int) - 1 - t)) ∧ Hid (wr.ownsRow w.heap.size 5 1 v (len + t) ((zs ++ pbl 0 k t).map (Value.int .u8))) ∧ Hid (Below w.heap.size w wr)) (fun _ i _ => (intOf i + 8).toNat)
  case atStart => exact ⟨0, Nat.zero_le _, by go_num, HO, HB⟩
  case round =>
    clear HO HB
    obtain ⟨t, ht, rfl, HO, HB⟩ := hrel
    by_cases hlt : t < k
    · have hsz := HB.out.size
      have HN : Hid (∀ j u, [Value.int .u8 ((0 : Int))][j]? = some u → (wr.alloc (.cells #[.int .u8 ((0 : Int))] 5)).cell? ((⟨wr.heap.size, 0, none⟩ : Addr).add j) = some u) := one_new wr ((0 : Int))
      go_wp2_with (at_builtin; refine wpList_append_own _ rfl _ _ 22 rfl w.heap.size 5 i0 (.int .u8 0) 1 1 Try.underlying22 hi hz0 hz1 hz2 rfl (by decide) u7 (len + t) _ rfl (HO.out.alloc _) ⟨wr.heap.size, 0, none⟩ 1 1 [.int .u8 ((0 : Int))] rfl rfl HN.out (ints_one [(0 : Int)]) (by unfold maxLen; omega) (by omega) (by simp; omega) ?_; intro v2 w2 hown2 hgrow2 _; refine Hid.out ?_)
      refine hidden ?_
      have HO2 : Hid (w2.ownsRow w.heap.size 5 1 v2 (len + (t + 1)) ((zs ++ pbl 0 k (t + 1)).map (Value.int .u8))) := by
        show World.ownsRow _ _ _ _ _ _ _
        rw [pbl_succ, byteOf_zero, ← List.append_assoc, List.map_append]
        exact hown2
      have HB2 : Hid (Below w.heap.size w w2) := (HB.out.alloc (by omega) _).grown hgrow2 (by simp; omega) (fun q hq => (HO.out.lt q hq).1)
      clear hown2 hgrow2 HN HO HB
      go_wp2
      go_roundw
      case rel => exact ⟨t + 1, by omega, by go_num, HO2, HB2⟩
      case measure => simp [intOf]; omega
    · have htk : t = k := by omega
      subst htk
      obtain ⟨a', cap', rfl⟩ := shape_of_owns HO.out
      go_wp2
      go_ret
      refine ⟨a', cap', rfl, ⟨HO.out, ?_⟩, HB.out⟩
      intro x hx
      rcases List.mem_append.1 hx with hx | hx
      · exact HS.out.2.1 x hx
      · exact pbl_range _ _ _ x hx

set_option maxRecDepth 10000 in
set_option maxHeartbeats 400000 in
theorem implPut_no (sa : Option Addr) (len cap : Nat) (n k : Int) (zs : List Int) (w : World) (hs : Seg w sa len zs) (hl : len ≤ 1099511627776) (hk : k < 1 ∨ 8 < k) :
    Calls Try.prog 17 #[.slice sa len cap, .int .i64 n, .int .i64 k] w fun e w' => ∃ a' cap', e = .returned (.slice a' len cap') ∧ Owns w' w.heap.size a' len cap' (zs) ∧ Below w.heap.size w w' := by
  obtain ⟨i0, hi, hz0, hz1, hz2⟩ := info_parts Try.info5
  have HS : Hid (Seg w sa len zs) := hs
  have hzl : zs.length = len := hs.1
  clear hs
  have HK : Hid (k < 1 ∨ 8 < k) := hk
  clear hk
  by_cases hk1 : k < 1
  · have hd1 : decide (k < 1) = true := by simp; omega
    by_cases hn0 : n < 0
    all_goals
      go_enter Try.func17, Try.ntmps17
      go_wp2_with (first | (at_make; refine wpList_make_room _ rfl _ _ 22 rfl 5 i0 (.int .u8 0) Try.underlying22 hi hz0 hz1 rfl hz2 _ _ _ _ len len rfl rfl rfl (by omega) (by omega) (by omega) ?_; intro w1 hg1 hb1; refine Hid.out ?_))
      refine hidden ?_
      have HG1 : Hid (w1.heap[w.heap.size]? = some (.cells (List.replicate len (Value.int .u8 0)).toArray 5 (0, 0))) := hg1
      have HB1 : Hid (Below w.heap.size w w1) := hb1
      clear hg1 hb1
      have HS1 : Hid (Seg w1 sa len zs) := HS.out.below HB1.out
      obtain ⟨w2, hrun, hg2, hb2⟩ := copy_any w1 w.heap.size len len sa cap zs HS1.out HG1.out (by omega) w HB1.out
      go_wp2
      clear hrun
      have HO : Hid (Owns w2 w.heap.size (some ⟨w.heap.size, 0, none⟩) len len zs) := by
        have h := own_of_row hg2 (base := w.heap.size) (Nat.le_refl _) (n := len) (c := len) (by simp [hzl]) (by omega) (by unfold maxLen; omega)
        rw [List.take_append_of_le_length (by simp [hzl]), List.take_of_length_le (by simp [hzl])] at h
        exact ⟨h, HS.out.2.1⟩
      have HB : Hid (Below w.heap.size w w2) := hb2
      clear hg2 hb2 HG1 HB1 HS1
      refine wp_loop_rounds 1 ?_
      rw [rounds_succ]
      go_wp2
      go_ret
      exact ⟨_, _, rfl, HO.out, HB.out⟩
  · have hk8 : 8 < k := by have := HK.out; omega
    have hd1 : decide (k < 1) = false := by simp; omega
    have hd2 : decide (8 < k) = true := by simp; omega
    by_cases hn0 : n < 0
    all_goals
      go_enter Try.func17, Try.ntmps17
      go_wp2_with (first | (at_make; refine wpList_make_room _ rfl _ _ 22 rfl 5 i0 (.int .u8 0) Try.underlying22 hi hz0 hz1 rfl hz2 _ _ _ _ len len rfl rfl rfl (by omega) (by omega) (by omega) ?_; intro w1 hg1 hb1; refine Hid.out ?_))
      refine hidden ?_
      have HG1 : Hid (w1.heap[w.heap.size]? = some (.cells (List.replicate len (Value.int .u8 0)).toArray 5 (0, 0))) := hg1
      have HB1 : Hid (Below w.heap.size w w1) := hb1
      clear hg1 hb1
      have HS1 : Hid (Seg w1 sa len zs) := HS.out.below HB1.out
      obtain ⟨w2, hrun, hg2, hb2⟩ := copy_any w1 w.heap.size len len sa cap zs HS1.out HG1.out (by omega) w HB1.out
      go_wp2
      clear hrun
      have HO : Hid (Owns w2 w.heap.size (some ⟨w.heap.size, 0, none⟩) len len zs) := by
        have h := own_of_row hg2 (base := w.heap.size) (Nat.le_refl _) (n := len) (c := len) (by simp [hzl]) (by omega) (by unfold maxLen; omega)
        rw [List.take_append_of_le_length (by simp [hzl]), List.take_of_length_le (by simp [hzl])] at h
        exact ⟨h, HS.out.2.1⟩
      have HB : Hid (Below w.heap.size w w2) := hb2
      clear hg2 hb2 HG1 HB1 HS1
      refine wp_loop_rounds 1 ?_
      rw [rounds_succ]
      go_wp2
      go_ret
      exact ⟨_, _, rfl, HO.out, HB.out⟩

theorem implPut_any (sa : Option Addr) (len cap : Nat) (n k : Int) (zs : List Int) (w : World) (hs : Seg w sa len zs) (hl : len ≤ 1099511627776) (hn : n ≤ 9223372036854775807) :
    Calls Try.prog 17 #[.slice sa len cap, .int .i64 n, .int .i64 k] w fun e w' => ∃ a' cap', e = .returned (.slice a' (pb zs n k).length cap') ∧ Owns w' w.heap.size a' (pb zs n k).length cap' (pb zs n k) ∧ Below w.heap.size w w' := by
  have hz := hs.1
  by_cases hk : 1 ≤ k ∧ k ≤ 8
  · obtain ⟨K, rfl⟩ := Int.eq_ofNat_of_zero_le (show 0 ≤ k by omega)
    have e : pb zs n K = zs ++ pbl n.toNat K K := by rw [pb, if_pos hk, Int.toNat_natCast]
    have el : (zs ++ pbl n.toNat K K).length = len + K := by rw [List.length_append, pbl_len, hz]
    rw [e, el]
    by_cases h0 : n < 0
    · rw [show n.toNat = 0 by omega]
      exact implPut_neg sa len cap K n zs w hs hl h0 (by omega) (by omega)
    · obtain ⟨M, rfl⟩ := Int.eq_ofNat_of_zero_le (show 0 ≤ n by omega)
      rw [Int.toNat_natCast]
      exact implPut_yes sa len cap M K zs w hs hl (by omega) (by omega) (by omega)
  · have e : pb zs n k = zs := by rw [pb, if_neg hk, List.append_nil]
    rw [e, hz]
    exact implPut_no sa len cap n k zs w hs hl (by omega)

end Go.Proofs.Ytpjldfpipchmjaw
