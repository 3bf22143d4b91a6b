/- What the program's PutBig answers: the bytes and behind them those of the number, in memory of its own; nothing that was there is written. For lists of at most 2^40 bytes that are not nil. What the program's PutPrefix answers: the bytes and behind them those of the prefixed number, in memory of its own; nothing that was there is written. For lists of at most 2^40 bytes that are not nil. The small facts of Own, under the name that the other texts import. A function that only answers a literal of many whole numbers: a new row, whatever their number; the parts are never walked one by one. No program in it. -/
import Derived.Test.YtbaijmkghgnleaaGreatDoorM04
import Derived.Test.YtbaijmkghgnleaaGreatDoorM04
import Derived.Test.YtbaijmkghgnleaaGreatDoorM01
import Derived.WalkKit
namespace Go.Proofs.YtbaijmkghgnleaaGreatDoor
open Go.RowKit
set_option linter.unusedVariables false

/-- 'copy' of bytes into a new row that is at least as long. -/
theorem copy_bytes (w1 : World) (g len c b off cap : Nat) (zs : List Int) (hs : Seg w1 (some ⟨b, off, none⟩) len zs) (hg : w1.heap[g]? = some (.cells (List.replicate c (Value.int .u8 0)).toArray 5 (0, 0))) (hc : len ≤ c) (w : World) (hb : Below g w w1) :
    ∃ w2, (Builtin.copy_ #[27, 27] 3 #[.slice (some ⟨g, 0, none⟩) len c, .slice (some ⟨b, off, none⟩) len cap]).run Tryz.prog w1 = .ok (.int .i64 len) w2 ∧
      w2.heap[g]? = some (.cells (zs.map (Value.int .u8) ++ List.replicate (c - len) (Value.int .u8 0)).toArray 5 (0, 0)) ∧ Below g w w2 := by
  obtain ⟨i0, hi, hz0, hz1, hz2⟩ := info_parts Tryz.info5
  have hzl : zs.length = len := hs.1
  have hr := run_copy_row (P := Tryz.prog) w1 27 27 3 5 g 0 len c ⟨b, off, none⟩ len cap _ 5 (zs.map (Value.int .u8)) Tryz.underlying27 (by rw [hi]; simp [hz1]) hg (by simp [hzl]) (cells_ints hs) (by simp [hzl]; omega) (ints_one zs)
  have hr2 : (Builtin.copy_ #[27, 27] 3 #[.slice (some ⟨g, 0, none⟩) len c, .slice (some ⟨b, off, none⟩) len cap]).run Tryz.prog w1 = .ok (.int .i64 len) (w1.setRow g (zs.map (Value.int .u8) ++ List.replicate (c - len) (Value.int .u8 0)).toArray) := by
    rw [hr]; simp [goInt, hzl]
  exact ⟨_, hr2, setRow_heap w1 g _ _ 5 _ hg, below_setRow hb (Nat.le_refl _) _⟩

theorem copy_any (w1 : World) (g len c : Nat) (sa : Option Addr) (cap : Nat) (zs : List Int) (hs : Seg w1 sa len zs) (hg : w1.heap[g]? = some (.cells (List.replicate c (Value.int .u8 0)).toArray 5 (0, 0))) (hc : len ≤ c) (w : World) (hb : Below g w w1) :
    ∃ w2, (Builtin.copy_ #[27, 27] 3 #[.slice (some ⟨g, 0, none⟩) len c, .slice sa len cap]).run Tryz.prog w1 = .ok (.int .i64 len) w2 ∧
      w2.heap[g]? = some (.cells (zs.map (Value.int .u8) ++ List.replicate (c - len) (Value.int .u8 0)).toArray 5 (0, 0)) ∧ Below g w w2 := by
  rcases hs.2.2 with h | ⟨b, off, rfl, _⟩
  · subst h
    obtain rfl : zs = [] := List.eq_nil_of_length_eq_zero hs.1
    refine ⟨w1, ?_, by simpa using hg, hb⟩
    obtain ⟨i0, hi, hz0, hz1, hz2⟩ := info_parts Tryz.info5
    cases sa with
    | none => simp [Builtin.copy_, run_underlying Tryz.underlying27, sizeOf, typeInfo, hi, Builtin.lenOf, Builtin.firstCells, storeCells, goInt]
    | some ad => simp [Builtin.copy_, run_underlying Tryz.underlying27, sizeOf, typeInfo, hi, Builtin.lenOf, Builtin.firstCells, loadCells, loadCellsFrom, storeCells, goInt]
  · exact copy_bytes w1 g len c b off cap zs hs hg hc w hb

set_option maxRecDepth 10000 in
set_option maxHeartbeats 400000 in
theorem implPut_yes (sa : Option Addr) (len cap n k : Nat) (zs : List Int) (w : World) (hs : Seg w sa len zs) (hl : len ≤ 1099511627776) (hn : n ≤ 9223372036854775807) (h1 : 1 ≤ k) (h8 : k ≤ 8) :
    Calls Tryz.prog 89 #[.slice sa len cap, .int .i64 n, .int .i64 k] w fun e w' => ∃ a' cap', e = .returned (.slice a' (len + k) cap') ∧ Owns w' w.heap.size a' (len + k) cap' (zs ++ pbl n k k) ∧ Below w.heap.size w w' := by
  obtain ⟨i0, hi, hz0, hz1, hz2⟩ := info_parts Tryz.info5
  have HS : Hid (Seg w sa len zs) := hs
  have hzl : zs.length = len := hs.1
  clear hs
  have hk1 : (1 : Int) ≤ (k : Int) := by omega
  have hk8 : (k : Int) ≤ 8 := by omega
  have hn0 : (0 : Int) ≤ (n : Int) := by omega
  have hd1 : decide ((k : Int) < 1) = false := by simp; omega
  have hd2 : decide ((8 : Int) < (k : Int)) = false := by simp; omega
  go_enter Tryz.func89, Tryz.ntmps89
  go_wp2_with (first | (at_make; refine wpList_make_room _ rfl _ _ 27 rfl 5 i0 (.int .u8 0) Tryz.underlying27 hi hz0 hz1 rfl hz2 _ _ _ _ len (len + k) rfl rfl rfl (by omega) (by omega) (by omega) ?_; intro w1 hg1 hb1; refine Hid.out ?_))
  refine hidden ?_
  have HG1 : Hid (w1.heap[w.heap.size]? = some (.cells (List.replicate (len + k) (Value.int .u8 0)).toArray 5 (0, 0))) := hg1
  have HB1 : Hid (Below w.heap.size w w1) := hb1
  clear hg1 hb1
  have HS1 : Hid (Seg w1 sa len zs) := HS.out.below HB1.out
  obtain ⟨w2, hrun, hg2, hb2⟩ := copy_any w1 w.heap.size len (len + k) sa cap zs HS1.out HG1.out (by omega) w HB1.out
  go_wp2
  clear hrun
  have HO : Hid (w2.ownsRow w.heap.size 5 1 (.slice (some ⟨w.heap.size, 0, none⟩) len (len + k)) (len + 0) ((zs ++ pbl n k 0).map (Value.int .u8))) := by
    show World.ownsRow _ _ _ _ _ _ _
    have h := own_of_row hg2 (base := w.heap.size) (Nat.le_refl _) (n := len) (c := len + k) (by simp [hzl]) (by omega) (by unfold maxLen; omega)
    simpa [pbl, hzl] using h
  have HB : Hid (Below w.heap.size w w2) := hb2
  clear hg2 hb2 HG1 HB1 HS1
  go_loopw [7, 8] (fun v i wr => ∃ t : Nat, t ≤ k ∧ i = .int .i64 (8 * ((k : Int) - 1 - t)) ∧ Hid (wr.ownsRow w.heap.size 5 1 v (len + t) ((zs ++ pbl n k t).map (Value.int .u8))) ∧ Hid (Below w.heap.size w wr)) (fun _ i _ => (intOf i + 8).toNat)
  case atStart => exact ⟨0, Nat.zero_le _, by go_num, HO, HB⟩
  case round =>
    clear HO HB
    obtain ⟨t, ht, rfl, HO, HB⟩ := hrel
    by_cases hlt : t < k
    · have hsz := HB.out.size
      have HN : Hid (∀ j u, [Value.int .u8 (byteOf n (k - 1 - t))][j]? = some u → (wr.alloc (.cells #[.int .u8 (byteOf n (k - 1 - t))] 5)).cell? ((⟨wr.heap.size, 0, none⟩ : Addr).add j) = some u) := one_new wr (byteOf n (k - 1 - t))
      go_wp2_with (at_builtin; refine wpList_append_own _ rfl _ _ 27 rfl w.heap.size 5 i0 (.int .u8 0) 1 1 Tryz.underlying27 hi hz0 hz1 hz2 rfl (by decide) u7 (len + t) _ rfl (HO.out.alloc _) ⟨wr.heap.size, 0, none⟩ 1 1 [.int .u8 (byteOf n (k - 1 - t))] rfl rfl HN.out (ints_one [byteOf n (k - 1 - t)]) (by unfold maxLen; omega) (by omega) (by simp; omega) ?_; intro v2 w2 hown2 hgrow2 _; refine Hid.out ?_)
      refine hidden ?_
      have HO2 : Hid (w2.ownsRow w.heap.size 5 1 v2 (len + (t + 1)) ((zs ++ pbl n k (t + 1)).map (Value.int .u8))) := by
        show World.ownsRow _ _ _ _ _ _ _
        rw [pbl_succ, ← List.append_assoc, List.map_append]
        exact hown2
      have HB2 : Hid (Below w.heap.size w w2) := (HB.out.alloc (by omega) _).grown hgrow2 (by simp; omega) (fun q hq => (HO.out.lt q hq).1)
      clear hown2 hgrow2 HN HO HB
      go_wp2
      go_roundw
      case rel => exact ⟨t + 1, by omega, by go_num, HO2, HB2⟩
      case measure => simp [intOf]; omega
    · have htk : t = k := by omega
      subst htk
      obtain ⟨a', cap', rfl⟩ := shape_of_owns HO.out
      go_wp2
      go_ret
      refine ⟨a', cap', rfl, ⟨HO.out, ?_⟩, HB.out⟩
      intro x hx
      rcases List.mem_append.1 hx with hx | hx
      · exact HS.out.2.1 x hx
      · exact pbl_range _ _ _ x hx

set_option maxRecDepth 10000 in
set_option maxHeartbeats 400000 in
theorem implPut_neg (sa : Option Addr) (len cap k : Nat) (n : Int) (zs : List Int) (w : World) (hs : Seg w sa len zs) (hl : len ≤ 1099511627776) (hn : n < 0) (h1 : 1 ≤ k) (h8 : k ≤ 8) :
    Calls Tryz.prog 89 #[.slice sa len cap, .int .i64 n, .int .i64 k] w fun e w' => ∃ a' cap', e = .returned (.slice a' (len + k) cap') ∧ Owns w' w.heap.size a' (len + k) cap' (zs ++ pbl 0 k k) ∧ Below w.heap.size w w' := by
  obtain ⟨i0, hi, hz0, hz1, hz2⟩ := info_parts Tryz.info5
  have HS : Hid (Seg w sa len zs) := hs
  have hzl : zs.length = len := hs.1
  clear hs
  have hk1 : (1 : Int) ≤ (k : Int) := by omega
  have hk8 : (k : Int) ≤ 8 := by omega
  have hd1 : decide ((k : Int) < 1) = false := by simp; omega
  have hd2 : decide ((8 : Int) < (k : Int)) = false := by simp; omega
  go_enter Tryz.func89, Tryz.ntmps89
  go_wp2_with (first | (at_make; refine wpList_make_room _ rfl _ _ 27 rfl 5 i0 (.int .u8 0) Tryz.underlying27 hi hz0 hz1 rfl hz2 _ _ _ _ len (len + k) rfl rfl rfl (by omega) (by omega) (by omega) ?_; intro w1 hg1 hb1; refine Hid.out ?_))
  refine hidden ?_
  have HG1 : Hid (w1.heap[w.heap.size]? = some (.cells (List.replicate (len + k) (Value.int .u8 0)).toArray 5 (0, 0))) := hg1
  have HB1 : Hid (Below w.heap.size w w1) := hb1
  clear hg1 hb1
  have HS1 : Hid (Seg w1 sa len zs) := HS.out.below HB1.out
  obtain ⟨w2, hrun, hg2, hb2⟩ := copy_any w1 w.heap.size len (len + k) sa cap zs HS1.out HG1.out (by omega) w HB1.out
  go_wp2
  clear hrun
  have HO : Hid (w2.ownsRow w.heap.size 5 1 (.slice (some ⟨w.heap.size, 0, none⟩) len (len + k)) (len + 0) ((zs ++ pbl 0 k 0).map (Value.int .u8))) := by
    show World.ownsRow _ _ _ _ _ _ _
    have h := own_of_row hg2 (base := w.heap.size) (Nat.le_refl _) (n := len) (c := len + k) (by simp [hzl]) (by omega) (by unfold maxLen; omega)
    simpa [pbl, hzl] using h
  have HB : Hid (Below w.heap.size w w2) := hb2
  clear hg2 hb2 HG1 HB1 HS1
  go_loopw [7, 8] (fun v i wr => ∃ t : Nat, t ≤ k ∧ i = .int .i64 (8 * ((k : Int) - 1 - t)) ∧ Hid (wr.ownsRow w.heap.size 5 1 v (len + t) ((zs ++ pbl 0 k t).map (Value.int .u8))) ∧ Hid (Below w.heap.size w wr)) (fun _ i _ => (intOf i + 8).toNat)
  case atStart => exact ⟨0, Nat.zero_le _, by go_num, HO, HB⟩
  case round =>
    clear HO HB
    obtain ⟨t, ht, rfl, HO, HB⟩ := hrel
    by_cases hlt : t < k
    · have hsz := HB.out.size
      have HN : Hid (∀ j u, [Value.int .u8 ((0 : Int))][j]? = some u → (wr.alloc (.cells #[.int .u8 ((0 : Int))] 5)).cell? ((⟨wr.heap.size, 0, none⟩ : Addr).add j) = some u) := one_new wr ((0 : Int))
      go_wp2_with (at_builtin; refine wpList_append_own _ rfl _ _ 27 rfl w.heap.size 5 i0 (.int .u8 0) 1 1 Tryz.underlying27 hi hz0 hz1 hz2 rfl (by decide) u7 (len + t) _ rfl (HO.out.alloc _) ⟨wr.heap.size, 0, none⟩ 1 1 [.int .u8 ((0 : Int))] rfl rfl HN.out (ints_one [(0 : Int)]) (by unfold maxLen; omega) (by omega) (by simp; omega) ?_; intro v2 w2 hown2 hgrow2 _; refine Hid.out ?_)
      refine hidden ?_
      have HO2 : Hid (w2.ownsRow w.heap.size 5 1 v2 (len + (t + 1)) ((zs ++ pbl 0 k (t + 1)).map (Value.int .u8))) := by
        show World.ownsRow _ _ _ _ _ _ _
        rw [pbl_succ, byteOf_zero, ← List.append_assoc, List.map_append]
        exact hown2
      have HB2 : Hid (Below w.heap.size w w2) := (HB.out.alloc (by omega) _).grown hgrow2 (by simp; omega) (fun q hq => (HO.out.lt q hq).1)
      clear hown2 hgrow2 HN HO HB
      go_wp2
      go_roundw
      case rel => exact ⟨t + 1, by omega, by go_num, HO2, HB2⟩
      case measure => simp [intOf]; omega
    · have htk : t = k := by omega
      subst htk
      obtain ⟨a', cap', rfl⟩ := shape_of_owns HO.out
      go_wp2
      go_ret
      refine ⟨a', cap', rfl, ⟨HO.out, ?_⟩, HB.out⟩
      intro x hx
      rcases List.mem_append.1 hx with hx | hx
      · exact HS.out.2.1 x hx
      · exact pbl_range _ _ _ x hx

set_option maxRecDepth 10000 in
set_option maxHeartbeats 400000 in
theorem implPut_no (sa : Option Addr) (len cap : Nat) (n k : Int) (zs : List Int) (w : World) (hs : Seg w sa len zs) (hl : len ≤ 1099511627776) (hk : k < 1 ∨ 8 < k) :
    Calls Tryz.prog 89 #[.slice sa len cap, .int .i64 n, .int .i64 k] w fun e w' => ∃ a' cap', e = .returned (.slice a' len cap') ∧ Owns w' w.heap.size a' len cap' (zs) ∧ Below w.heap.size w w' := by
  obtain ⟨i0, hi, hz0, hz1, hz2⟩ := info_parts Tryz.info5
  have HS : Hid (Seg w sa len zs) := hs
  have hzl : zs.length = len := hs.1
  clear hs
  have HK : Hid (k < 1 ∨ 8 < k) := hk
  clear hk
  by_cases hk1 : k < 1
  · have hd1 : decide (k < 1) = true := by simp; omega
    by_cases hn0 : n < 0
    all_goals
      go_enter Tryz.func89, Tryz.ntmps89
      go_wp2_with (first | (at_make; refine wpList_make_room _ rfl _ _ 27 rfl 5 i0 (.int .u8 0) Tryz.underlying27 hi hz0 hz1 rfl hz2 _ _ _ _ len len rfl rfl rfl (by omega) (by omega) (by omega) ?_; intro w1 hg1 hb1; refine Hid.out ?_))
      refine hidden ?_
      have HG1 : Hid (w1.heap[w.heap.size]? = some (.cells (List.replicate len (Value.int .u8 0)).toArray 5 (0, 0))) := hg1
      have HB1 : Hid (Below w.heap.size w w1) := hb1
      clear hg1 hb1
      have HS1 : Hid (Seg w1 sa len zs) := HS.out.below HB1.out
      obtain ⟨w2, hrun, hg2, hb2⟩ := copy_any w1 w.heap.size len len sa cap zs HS1.out HG1.out (by omega) w HB1.out
      go_wp2
      clear hrun
      have HO : Hid (Owns w2 w.heap.size (some ⟨w.heap.size, 0, none⟩) len len zs) := by
        have h := own_of_row hg2 (base := w.heap.size) (Nat.le_refl _) (n := len) (c := len) (by simp [hzl]) (by omega) (by unfold maxLen; omega)
        rw [List.take_append_of_le_length (by simp [hzl]), List.take_of_length_le (by simp [hzl])] at h
        exact ⟨h, HS.out.2.1⟩
      have HB : Hid (Below w.heap.size w w2) := hb2
      clear hg2 hb2 HG1 HB1 HS1
      refine wp_loop_rounds 1 ?_
      rw [rounds_succ]
      go_wp2
      go_ret
      exact ⟨_, _, rfl, HO.out, HB.out⟩
  · have hk8 : 8 < k := by have := HK.out; omega
    have hd1 : decide (k < 1) = false := by simp; omega
    have hd2 : decide (8 < k) = true := by simp; omega
    by_cases hn0 : n < 0
    all_goals
      go_enter Tryz.func89, Tryz.ntmps89
      go_wp2_with (first | (at_make; refine wpList_make_room _ rfl _ _ 27 rfl 5 i0 (.int .u8 0) Tryz.underlying27 hi hz0 hz1 rfl hz2 _ _ _ _ len len rfl rfl rfl (by omega) (by omega) (by omega) ?_; intro w1 hg1 hb1; refine Hid.out ?_))
      refine hidden ?_
      have HG1 : Hid (w1.heap[w.heap.size]? = some (.cells (List.replicate len (Value.int .u8 0)).toArray 5 (0, 0))) := hg1
      have HB1 : Hid (Below w.heap.size w w1) := hb1
      clear hg1 hb1
      have HS1 : Hid (Seg w1 sa len zs) := HS.out.below HB1.out
      obtain ⟨w2, hrun, hg2, hb2⟩ := copy_any w1 w.heap.size len len sa cap zs HS1.out HG1.out (by omega) w HB1.out
      go_wp2
      clear hrun
      have HO : Hid (Owns w2 w.heap.size (some ⟨w.heap.size, 0, none⟩) len len zs) := by
        have h := own_of_row hg2 (base := w.heap.size) (Nat.le_refl _) (n := len) (c := len) (by simp [hzl]) (by omega) (by unfold maxLen; omega)
        rw [List.take_append_of_le_length (by simp [hzl]), List.take_of_length_le (by simp [hzl])] at h
        exact ⟨h, HS.out.2.1⟩
      have HB : Hid (Below w.heap.size w w2) := hb2
      clear hg2 hb2 HG1 HB1 HS1
      refine wp_loop_rounds 1 ?_
      rw [rounds_succ]
      go_wp2
      go_ret
      exact ⟨_, _, rfl, HO.out, HB.out⟩

theorem implPut_any (sa : Option Addr) (len cap : Nat) (n k : Int) (zs : List Int) (w : World) (hs : Seg w sa len zs) (hl : len ≤ 1099511627776) (hn : n ≤ 9223372036854775807) :
    Calls Tryz.prog 89 #[.slice sa len cap, .int .i64 n, .int .i64 k] w fun e w' => ∃ a' cap', e = .returned (.slice a' (pb zs n k).length cap') ∧ Owns w' w.heap.size a' (pb zs n k).length cap' (pb zs n k) ∧ Below w.heap.size w w' := by
  have hz := hs.1
  by_cases hk : 1 ≤ k ∧ k ≤ 8
  · obtain ⟨K, rfl⟩ := Int.eq_ofNat_of_zero_le (show 0 ≤ k by omega)
    have e : pb zs n K = zs ++ pbl n.toNat K K := by rw [pb, if_pos hk, Int.toNat_natCast]
    have el : (zs ++ pbl n.toNat K K).length = len + K := by rw [List.length_append, pbl_len, hz]
    rw [e, el]
    by_cases h0 : n < 0
    · rw [show n.toNat = 0 by omega]
      exact implPut_neg sa len cap K n zs w hs hl h0 (by omega) (by omega)
    · obtain ⟨M, rfl⟩ := Int.eq_ofNat_of_zero_le (show 0 ≤ n by omega)
      rw [Int.toNat_natCast]
      exact implPut_yes sa len cap M K zs w hs hl (by omega) (by omega) (by omega)
  · have e : pb zs n k = zs := by rw [pb, if_neg hk, List.append_nil]
    rw [e, hz]
    exact implPut_no sa len cap n k zs w hs hl (by omega)

end Go.Proofs.YtbaijmkghgnleaaGreatDoor

namespace Go.Proofs.YtbaijmkghgnleaaGreatDoor
open Go.RowKit Go.Shelf
set_option linter.unusedVariables false
attribute [local go_sem] Oper.semAt_some

theorem putPfx_len (zs : List Int) (bits first n : Int) : (putPfx zs bits first n).length ≤ zs.length + 6 := by
  unfold putPfx
  rw [List.length_append]
  split
  · have := pfx_len bits.toNat first.toNat (min n 16777216).toNat
    omega
  · simp

theorem pb_one (zs : List Int) (x : Int) (h0 : 0 ≤ x) (h1 : x ≤ 255) : pb zs x 1 = zs ++ [x] := by
  have e : byteOf x.toNat 0 = x := by simp [byteOf]; omega
  simp [pb, pbl, e]

set_option maxRecDepth 10000 in
set_option maxHeartbeats 800000 in
theorem implPfx_big (sa : Option Addr) (len cap B F M : Nat) (nn : Int) (zs : List Int) (w : World) (hs : Seg w sa len zs) (hl : len ≤ 1099511627776) (h1 : 1 ≤ B) (h8 : B ≤ 8) (hF : F ≤ 255) (hM : (min nn 16777216).toNat = M) (hge : 2 ^ B - 1 ≤ M) :
    Calls Tryz.prog 84 #[.slice sa len cap, .int .i64 B, .int .i64 F, .int .i64 nn] w fun e w' => ∃ a' cap', e = .returned (.slice a' (zs ++ pfx B F M).length cap') ∧ Owns w' w.heap.size a' (zs ++ pfx B F M).length cap' (zs ++ pfx B F M) ∧ Below w.heap.size w w' := by
  obtain ⟨i0, hi, hz0, hz1, hz2⟩ := info_parts Tryz.info5
  have HS : Hid (Seg w sa len zs) := hs
  have hzl : zs.length = len := hs.1
  clear hs
  have hMb : M ≤ 16777216 := by omega
  have HR : Hid (∀ x ∈ zs ++ pfx B F M, 0 ≤ x ∧ x ≤ 255) := by
    intro x hx
    rcases List.mem_append.1 hx with hx | hx
    · exact HS.out.2.1 x hx
    · exact pfx_range B F M h1 h8 hF x hx
  have hk1 : (1 : Int) ≤ (B : Int) := by omega
  have hk8 : (B : Int) ≤ 8 := by omega
  have hF0 : decide ((F : Int) < 0) = false := by simp
  have hF1 : decide ((255 : Int) < (F : Int)) = false := by simp; omega
  have hand := andNot_tab B (by omega) F (by omega)
  have htop := top_small B F h1 h8 hF
  have hps := pow_small B h1 h8
  have HP : Hid (pfx B F M = ((F / 2 ^ B * 2 ^ B + (2 ^ B - 1) : Nat) : Int) :: grp 5 (M - (2 ^ B - 1))) := by
    show pfx B F M = _
    unfold pfx
    rw [if_neg (by omega)]
  have hor := or_join (F / 2 ^ B) B (2 ^ B - 1) (by omega) (by omega) (by omega)
  have HFull : Hid (∀ w : World, Calls Tryz.prog 97 #[.int .i64 B] w fun e w' => e = .returned (.int .i64 ((2 ^ B - 1 : Nat) : Int)) ∧ w' = w) := fun w => full_any B w h1 h8
  generalize F / 2 ^ B * 2 ^ B = f at *
  generalize pfx B F M = P at *
  generalize hmm : 2 ^ B - 1 = m at *
  have hm1 : 1 ≤ m ∧ m ≤ 255 := by omega
  clear hps hmm
  obtain ⟨mx, hmx⟩ : ∃ mx : Int, (if nn < 0 then (0 : Int) else nn) = mx := ⟨_, rfl⟩
  have hmn : (if (16777216 : Int) < mx then (16777216 : Int) else mx) = (M : Int) := by
    rw [← hmx]
    split <;> split <;> omega
  have qx : ∀ w : World, (Builtin.max_ #[3, 3] 3 #[.int .i64 nn, .int .i64 0]).run Tryz.prog w = .ok (.int .i64 mx) w := fun w => by rw [run_max_int2]; simp only [gt_iff_lt, hmx]
  have qn : ∀ w : World, (Builtin.min_ #[3, 3] 3 #[.int .i64 mx, .int .i64 16777216]).run Tryz.prog w = .ok (.int .i64 M) w := fun w => by rw [run_min_int2, hmn]
  clear hmx hmn
  have hlt : decide ((M : Int) < (m : Int)) = false := by simp; omega
  have hltj : ((M : Int) < (m : Int)) = False := by simp; omega
  have hfn : ((f + m : Nat) : Int) ≤ 255 := by omega
  generalize hxx : ((f + m : Nat) : Int) = x at *
  have hx0 : 0 ≤ x := by omega
  clear hxx hM
  refine (callsIn_wide (n := 4)).1 ?_
  refine callsIn_of_wp_marks Tryz.func84 rfl trivial ?_ rfl
  simp only [Tryz.ntmps84, List.size_toArray, List.length_cons, List.length_nil, Nat.reduceAdd, Nat.reduceSub, Array.replicate_succ, Array.replicate_zero, List.push_toArray, List.append_toArray, List.nil_append, List.cons_append]
  gi_wp2_with fail
  refine ⟨trivial, (callsIn_wide.2 (bitsOk_yes _ _ hk1 hk8)).mono ?_⟩
  rintro e w1 ⟨rfl, rfl⟩
  gi_wp2_with fail
  refine ⟨trivial, (callsIn_wide.2 (HFull.out _)).mono ?_⟩
  rintro e w2 ⟨rfl, rfl⟩
  gi_wp2_with fail
  refine ⟨trivial, (callsIn_wide.2 (implPut_any _ _ _ x 1 zs _ HS.out hl (by omega))).mono ?_⟩
  rintro e w3 ⟨a3, c3, rfl, ow3, hb3⟩
  rw [pb_one zs x hx0 hfn] at ow3 ⊢
  have el : (zs ++ [x]).length = len + 1 := by simp [hzl]
  rw [el] at ow3 ⊢
  have OW3 : Hid (Owns w3 w2.heap.size a3 (len + 1) c3 (zs ++ [x])) := ow3
  have HB3 : Hid (Below w2.heap.size w2 w3) := hb3
  clear ow3 hb3 qx qn hand hor
  obtain ⟨v0, hv0⟩ : ∃ v0, M - m = v0 := ⟨_, rfl⟩
  have hnv : (M : Int) - (m : Int) = (v0 : Int) := by omega
  rw [hv0] at HP
  have hv0b : v0 ≤ 16777216 := by omega
  clear hv0
  gi_wp2_with fail
  refine ⟨trivial, (groupsOf_any _ _ _).mono ?_⟩
  rintro e w4 ⟨rfl, rfl⟩
  gi_wp2_with fail
  clear hnv hltj hlt hF0 hF1
  have bO := Boxed.new w3 27 (.slice a3 (len + 1) c3)
  have bN := Boxed.new (w3.alloc (.cells #[.slice a3 (len + 1) c3] 27)) 3 (.int .i64 v0)
  rw [World.size_alloc] at bN
  have hlt3 := HB3.out.size
  have hB0 : Below w2.heap.size w2 ((w3.alloc (.cells #[.slice a3 (len + 1) c3] 27)).alloc (.cells #[.int .i64 v0] 3)) := (HB3.out.alloc (by omega) _).alloc (by simp; omega) _
  have ow0 : ((w3.alloc (.cells #[.slice a3 (len + 1) c3] 27)).alloc (.cells #[.int .i64 v0] 3)).ownsRow w2.heap.size 5 1 (.slice a3 (len + 1) c3) (len + 1) ((zs ++ [x]).map (Value.int .u8)) := (OW3.out.1.alloc _).alloc _
  replace bO := bO.alloc (.cells #[.int .i64 v0] 3)
  obtain ⟨W0, hW0⟩ : ∃ W0, ((w3.alloc (.cells #[.slice a3 (len + 1) c3] 27)).alloc (.cells #[.int .i64 v0] 3)) = W0 := ⟨_, rfl⟩
  have hsz0 : W0.heap.size = w3.heap.size + 2 := by rw [← hW0]; simp
  rw [hW0] at bO bN hB0 ow0 ⊢
  clear hW0 OW3 HB3
  have HO0 : Hid (W0.ownsRow w2.heap.size 5 1 (.slice a3 (len + 1) c3) (len + 1) ((zs ++ [x]).map (Value.int .u8))) := ow0
  have HB0 : Hid (Below w2.heap.size w2 W0) := hB0
  have BO0 : Hid (Boxed W0 w3.heap.size 27 (.slice a3 (len + 1) c3)) := bO
  have BN0 : Hid (Boxed W0 (w3.heap.size + 1) 3 (.int .i64 v0)) := bN
  clear ow0 hB0 bO bN
  refine loop_turns rfl (by decide) (gf := 111) (lb := #[.pointer (some ⟨w3.heap.size + 1, 0, none⟩)]) rfl trivial (enters_of Tryz.func111 (by kernel_rfl) rfl) encG (fun _ => rfl)
    (fun (s : List Int × Nat) W => (∃ u, Boxed W w3.heap.size 27 u ∧ W.ownsRow w2.heap.size 5 1 u (len + 1 + s.1.length) ((zs ++ x :: s.1).map (Value.int .u8)) ∧ True) ∧ Boxed W (w3.heap.size + 1) 3 (.int .i64 s.2) ∧ (∃ k, 1 ≤ k ∧ s.2 ≤ 16777216 ∧ s.2 < 128 ^ k ∧ s.1.length + k = 5 ∧ s.1 ++ grp k s.2 = grp 5 v0) ∧ Below w2.heap.size w2 W)
    (fun (s : List Int × Nat) W => (∃ u, Boxed W w3.heap.size 27 u ∧ W.ownsRow w2.heap.size 5 1 u (len + 1 + (s.1.length + 1)) ((zs ++ x :: (s.1 ++ [((s.2 % 128 + 128 : Nat) : Int)])).map (Value.int .u8)) ∧ True) ∧ Boxed W (w3.heap.size + 1) 3 (.int .i64 s.2) ∧ (127 < s.2 ∧ ∃ k, 1 ≤ k ∧ s.2 ≤ 16777216 ∧ s.2 < 128 ^ k ∧ s.1.length + k = 5 ∧ s.1 ++ grp k s.2 = grp 5 v0) ∧ Below w2.heap.size w2 W)
    (fun c (s : List Int × Nat) W => (∃ u, Boxed W w3.heap.size 27 u ∧ W.ownsRow w2.heap.size 5 1 u (zs ++ P).length ((zs ++ P).map (Value.int .u8)) ∧ True) ∧ c = .exit 0 ∧ Below w2.heap.size w2 W)
    (fun _ _ => False) ((fun (s : List Int × Nat) W => (∃ u, Boxed W w3.heap.size 27 u ∧ W.ownsRow w2.heap.size 5 1 u (len + 1 + s.1.length) ((zs ++ x :: s.1).map (Value.int .u8)) ∧ True) ∧ Boxed W (w3.heap.size + 1) 3 (.int .i64 s.2) ∧ (∃ k, 1 ≤ k ∧ s.2 ≤ 16777216 ∧ s.2 < 128 ^ k ∧ s.1.length + k = 5 ∧ s.1 ++ grp k s.2 = grp 5 v0) ∧ Below w2.heap.size w2 W) ([], v0))
    (groups_iter 3 _ (w3.heap.size + 1) (by decide) _ _ _ (fun s : List Int × Nat => (s.1 ++ [((s.2 % 128 + 128 : Nat) : Int)], s.2 / 128)) (fun s W h => ⟨h.2.1, by obtain ⟨k, _, h2, _⟩ := h.2.2.1; exact h2⟩) (fun s W h => ⟨h.2.1, h.2.2.1.1, by obtain ⟨_, k, _, h2, _⟩ := h.2.2.1; exact h2⟩) ?nxt _)
    (OwnFrom.and (Own.from (holdsRow_own w2.heap.size w3.heap.size 27 5 1 (fun s : List Int × Nat => len + 1 + s.1.length) (fun s : List Int × Nat => (zs ++ x :: s.1).map (Value.int .u8)) (fun _ _ => True)) _) (OwnFrom.and (Own.from (boxed_own _ _ (fun s : List Int × Nat => .int .i64 s.2)) _) (OwnFrom.and (ownFrom_pure _ _) (ownFrom_below (Nat.le_refl _) (by omega)))))
    (OwnFrom.and (Own.from (holdsRow_own w2.heap.size w3.heap.size 27 5 1 (fun s : List Int × Nat => len + 1 + (s.1.length + 1)) (fun s : List Int × Nat => (zs ++ x :: (s.1 ++ [((s.2 % 128 + 128 : Nat) : Int)])).map (Value.int .u8)) (fun _ _ => True)) _) (OwnFrom.and (Own.from (boxed_own _ _ (fun s : List Int × Nat => .int .i64 s.2)) _) (OwnFrom.and (ownFrom_pure _ _) (ownFrom_below (Nat.le_refl _) (by omega)))))
    (fun c => OwnFrom.and (Own.from (holdsRow_own w2.heap.size w3.heap.size 27 5 1 (fun s : List Int × Nat => (zs ++ P).length) (fun s : List Int × Nat => (zs ++ P).map (Value.int .u8)) (fun _ _ => True)) _) (OwnFrom.and (ownFrom_pure _ _) (ownFrom_below (Nat.le_refl _) (by omega))))
    (fun _ _ _ _ hs _ _ => hs)
    (fun _ A B row hs hg hr => ?own0)
    ⟨⟨_, BO0.out, by simpa using HO0.out, trivial⟩, BN0.out, ⟨5, by omega, hv0b, by omega, rfl, rfl⟩, HB0.out⟩
    ?frame ?assign ?body ?done ?stop
  case own0 =>
    exact (OwnFrom.and (Own.from (holdsRow_own w2.heap.size w3.heap.size 27 5 1 (fun s : List Int × Nat => len + 1 + s.1.length) (fun s : List Int × Nat => (zs ++ x :: s.1).map (Value.int .u8)) (fun _ _ => True)) _) (OwnFrom.and (Own.from (boxed_own (w3.heap.size + 1) 3 (fun s : List Int × Nat => .int .i64 s.2)) _) (OwnFrom.and (ownFrom_pure _ (fun s : List Int × Nat => ∃ k, 1 ≤ k ∧ s.2 ≤ 16777216 ∧ s.2 < 128 ^ k ∧ s.1.length + k = 5 ∧ s.1 ++ grp k s.2 = grp 5 v0)) (ownFrom_below (Nat.le_refl _) (by omega))))) ([], v0) A B row hs hg hr
  case assign =>
    intro l s W K hK
    gi_wp2
    exact hK
  case nxt =>
    rintro ⟨d, v⟩ W ⟨⟨u, hu, hrow, _⟩, hbn, ⟨hgt, k, hk, hv, hvk, hdk, hg⟩, hB⟩
    dsimp only at hrow hbn hgt hv hvk hdk hg
    obtain ⟨k', rfl⟩ : ∃ k', k = k' + 1 := ⟨k - 1, by omega⟩
    have hq : v / 128 < 128 ^ k' := by
      rw [Nat.pow_succ] at hvk
      omega
    have hk2 : 1 ≤ k' := by
      by_cases h0 : k' = 0
      · subst h0; simp at hq; omega
      · omega
    refine ⟨⟨u, hu.other (by omega) _, ?_, trivial⟩, hbn.set _, ⟨k', hk2, ?_, hq, ?_, ?_⟩, hB.setCell (p := ⟨w3.heap.size + 1, 0, none⟩) (by show w2.heap.size ≤ w3.heap.size + 1; omega) _⟩
    · have := hrow.kept (grownBy_setCell' W (w3.heap.size + 1) (.int .i64 ((v / 128 : Nat) : Int))) (.inr (hbn.not_row (by decide) hrow).symm)
      simpa using this
    · show v / 128 ≤ 16777216
      omega
    · simp; omega
    · rw [← hg, grp, if_pos hgt, List.append_assoc]
      rfl
  case body =>
    rintro l ⟨d, v⟩ W ⟨⟨u, hu, hrow, _⟩, hbn, ⟨k, hk, hv, hvk, hdk, hg⟩, hB⟩
    dsimp only at hrow hbn hv hvk hdk hg ⊢
    have hc := hu.cell
    have hszW := hB.size
    by_cases hbig : 127 < v
    · have hd : decide ((127 : Int) < (v : Int)) = true := by simp; omega
      have hgf : bits .or .i64 ((v : Int) % 128) 128 = ((v % 128 + 128 : Nat) : Int) := by rw [← i64_and127]; exact group_form v hv
      generalize hyy : ((v % 128 + 128 : Nat) : Int) = y at *
      have hy0 : 0 ≤ y := by omega
      have hy1 : y ≤ 255 := by omega
      clear hyy
      have HN : Hid (∀ j u, [Value.int .u8 y][j]? = some u → (W.alloc (.cells #[.int .u8 y] 5)).cell? ((⟨W.heap.size, 0, none⟩ : Addr).add j) = some u) := one_new W y
      gi_wp2_with (gi_at_builtin; refine wpListIn_append_own _ rfl _ _ 27 rfl w2.heap.size 5 i0 (.int .u8 0) 1 1 Tryz.underlying27 hi hz0 hz1 hz2 rfl (by decide) _ _ _ rfl (hrow.alloc _) ⟨W.heap.size, 0, none⟩ 1 1 [.int .u8 y] rfl rfl HN.out (ints_one [y]) (by unfold maxLen; omega) (by omega) (by simp; omega) ?_; intro v' w1 hown' hgrow _; obtain ⟨g', cap', rfl⟩ := ownsRow_succ hown'; obtain ⟨hv1, hv2, hr2, hk2, hb2⟩ := hu.appended (by decide) hrow hB.size (by omega) hown' hgrow; have hc1 := hv1.cell; have hf1 := hv1.frozen)
      have hbn1 := ((hbn.alloc (.cells #[.int .u8 y] 5)).kept hgrow (hbn.not_row (by decide) hrow)).other (B' := w3.heap.size) (by omega) (.slice (some ⟨g', 0, none⟩) (len + 1 + d.length + 1) cap')
      refine ⟨hk2.from _, ⟨_, hv2, ?_, trivial⟩, hbn1, ⟨hbig, k, hk, hv, hvk, hdk, hg⟩, hB.trans hb2⟩
      have e : zs ++ x :: (d ++ [y]) = (zs ++ x :: d) ++ [y] := by simp
      rw [e, List.map_append, ← Nat.add_assoc]
      exact hr2
    · have hd : decide ((127 : Int) < (v : Int)) = false := by simp; omega
      have hmod : (v : Int) % 128 = (v : Int) := by omega
      have hvi : (v : Int) ≤ 255 := by omega
      have hv0' : (0 : Int) ≤ (v : Int) := by omega
      have hg2 : d ++ [(v : Int)] = grp 5 v0 := by
        obtain ⟨k', rfl⟩ : ∃ k', k = k' + 1 := ⟨k - 1, by omega⟩
        rw [← hg, grp, if_neg hbig]
      have HN : Hid (∀ j u, [Value.int .u8 (v : Int)][j]? = some u → (W.alloc (.cells #[.int .u8 (v : Int)] 5)).cell? ((⟨W.heap.size, 0, none⟩ : Addr).add j) = some u) := one_new W v
      gi_wp2_with (gi_at_builtin; refine wpListIn_append_own _ rfl _ _ 27 rfl w2.heap.size 5 i0 (.int .u8 0) 1 1 Tryz.underlying27 hi hz0 hz1 hz2 rfl (by decide) _ _ _ rfl (hrow.alloc _) ⟨W.heap.size, 0, none⟩ 1 1 [.int .u8 (v : Int)] rfl rfl HN.out (ints_one [(v : Int)]) (by unfold maxLen; omega) (by omega) (by simp; omega) ?_; intro v' w1 hown' hgrow _; obtain ⟨g', cap', rfl⟩ := ownsRow_succ hown'; obtain ⟨hv1, hv2, hr2, hk2, hb2⟩ := hu.appended (by decide) hrow hB.size (by omega) hown' hgrow; have hc1 := hv1.cell; have hf1 := hv1.frozen)
      refine ⟨hk2.from _, ⟨_, hv2, ?_, trivial⟩, rfl, hB.trans hb2⟩
      have e : zs ++ P = (zs ++ x :: d) ++ [(v : Int)] := by rw [HP.out, ← hg2]; simp
      have e2 : (zs ++ P).length = len + 1 + d.length + 1 := by rw [e]; simp [hzl]; omega
      rw [e2, e, List.map_append]
      exact hr2
  case done =>
    rintro D s W hD h
    exact h.elim
  case stop =>
    rintro D c s W hD ⟨⟨u, hu, hrow, _⟩, rfl, hB⟩ hK
    have hc := hu.cell
    obtain ⟨a', cap', rfl⟩ := shape_of_owns hrow
    gi_wp2
    refine ⟨by simp, .inl ⟨_, _, rfl, run_takeDeferred hK, ?_⟩⟩
    refine ⟨_, results_tmp rfl _ _ _, a', cap', by rw [List.length_append, hzl]; rfl, ⟨ownsRow_putObj hrow _ hK rfl, HR.out⟩, hB.trans (belowK_b (w := W0) (by omega) W D _ _ hD hK rfl rfl)⟩

set_option maxRecDepth 10000 in
set_option maxHeartbeats 800000 in
theorem implPfx_small (sa : Option Addr) (len cap B F M : Nat) (nn : Int) (zs : List Int) (w : World) (hs : Seg w sa len zs) (hl : len ≤ 1099511627776) (h1 : 1 ≤ B) (h8 : B ≤ 8) (hF : F ≤ 255) (hM : (min nn 16777216).toNat = M) (hlt' : M < 2 ^ B - 1) :
    Calls Tryz.prog 84 #[.slice sa len cap, .int .i64 B, .int .i64 F, .int .i64 nn] w fun e w' => ∃ a' cap', e = .returned (.slice a' (zs ++ pfx B F M).length cap') ∧ Owns w' w.heap.size a' (zs ++ pfx B F M).length cap' (zs ++ pfx B F M) ∧ Below w.heap.size w w' := by
  have HS : Hid (Seg w sa len zs) := hs
  have hzl : zs.length = len := hs.1
  clear hs
  have hk1 : (1 : Int) ≤ (B : Int) := by omega
  have hk8 : (B : Int) ≤ 8 := by omega
  have hF0 : decide ((F : Int) < 0) = false := by simp
  have hF1 : decide ((255 : Int) < (F : Int)) = false := by simp; omega
  have hand := andNot_tab B (by omega) F (by omega)
  have htop := top_small B F h1 h8 hF
  have hps := pow_small B h1 h8
  have HP : Hid (pfx B F M = [((F / 2 ^ B * 2 ^ B + M : Nat) : Int)]) := by
    show pfx B F M = _
    unfold pfx
    rw [if_pos hlt']
  have hor := or_join (F / 2 ^ B) B M (by omega) (by omega) (by omega)
  have HFull : Hid (∀ w : World, Calls Tryz.prog 97 #[.int .i64 B] w fun e w' => e = .returned (.int .i64 ((2 ^ B - 1 : Nat) : Int)) ∧ w' = w) := fun w => full_any B w h1 h8
  generalize F / 2 ^ B * 2 ^ B = f at *
  generalize pfx B F M = P at *
  generalize hmm : 2 ^ B - 1 = m at *
  have hm1 : 1 ≤ m ∧ m ≤ 255 := by omega
  clear hps hmm
  obtain ⟨mx, hmx⟩ : ∃ mx : Int, (if nn < 0 then (0 : Int) else nn) = mx := ⟨_, rfl⟩
  have hmn : (if (16777216 : Int) < mx then (16777216 : Int) else mx) = (M : Int) := by
    rw [← hmx]
    split <;> split <;> omega
  have qx : ∀ w : World, (Builtin.max_ #[3, 3] 3 #[.int .i64 nn, .int .i64 0]).run Tryz.prog w = .ok (.int .i64 mx) w := fun w => by rw [run_max_int2]; simp only [gt_iff_lt, hmx]
  have qn : ∀ w : World, (Builtin.min_ #[3, 3] 3 #[.int .i64 mx, .int .i64 16777216]).run Tryz.prog w = .ok (.int .i64 M) w := fun w => by rw [run_min_int2, hmn]
  clear hmx hmn
  have hlt : decide ((M : Int) < (m : Int)) = true := by simp; omega
  have hltj : ((M : Int) < (m : Int)) = True := by simp; omega
  have hfn : ((f + M : Nat) : Int) ≤ 255 := by omega
  generalize hxx : ((f + M : Nat) : Int) = x at *
  have hx0 : 0 ≤ x := by omega
  clear hxx hM
  go_enter Tryz.func84, Tryz.ntmps84
  go_wp2_with fail
  refine (bitsOk_yes _ _ hk1 hk8).mono ?_
  rintro e w1 ⟨rfl, rfl⟩
  go_wp2_with fail
  refine (HFull.out _).mono ?_
  rintro e w2 ⟨rfl, rfl⟩
  go_wp2_with fail
  refine (implPut_any _ _ _ x 1 zs _ HS.out hl (by omega)).mono ?_
  rintro e w3 ⟨a3, c3, rfl, ow3, hb3⟩
  rw [pb_one zs x hx0 hfn, ← HP.out] at ow3 ⊢
  generalize hln : (zs ++ P).length = ln at *
  have OW3 : Hid (Owns w3 w2.heap.size a3 ln c3 (zs ++ P)) := ow3
  have HB3 : Hid (Below w2.heap.size w2 w3) := hb3
  have HL : Hid ((zs ++ P).length = ln) := hln
  clear ow3 hb3 qx qn hand hor hln
  go_wp2_with fail
  go_ret
  rw [HL.out]
  exact ⟨a3, c3, rfl, OW3.out, HB3.out⟩

set_option maxRecDepth 10000 in
set_option maxHeartbeats 400000 in
theorem implPfx_no (b off len cap : Nat) (bits first n : Int) (zs : List Int) (w : World) (hs : Seg w (some ⟨b, off, none⟩) len zs) (hl : len ≤ 1099511627776) (h : ¬ (1 ≤ bits ∧ bits ≤ 8 ∧ 0 ≤ first ∧ first ≤ 255)) :
    Calls Tryz.prog 84 #[.slice (some ⟨b, off, none⟩) len cap, .int .i64 bits, .int .i64 first, .int .i64 n] w fun e w' => ∃ a' cap', e = .returned (.slice a' len cap') ∧ Owns w' w.heap.size a' len cap' zs ∧ Below w.heap.size w w' := by
  have HS : Hid (Seg w (some ⟨b, off, none⟩) len zs) := hs
  have HN : Hid (¬ (1 ≤ bits ∧ bits ≤ 8 ∧ 0 ≤ first ∧ first ≤ 255)) := h
  clear hs h
  go_enter Tryz.func84, Tryz.ntmps84
  by_cases hb : 1 ≤ bits ∧ bits ≤ 8
  · have HF : Hid (first < 0 ∨ 255 < first) := by
      have := HN.out
      show _ ∨ _
      omega
    obtain ⟨hb1, hb2⟩ := hb
    go_wp2_with fail
    refine (bitsOk_yes _ _ hb1 hb2).mono ?_
    rintro e w1 ⟨rfl, rfl⟩
    by_cases h0 : first < 0
    · go_wp2_with fail
      refine (clone_any _ _ _ _ _ _ HS.out hl).mono ?_
      rintro e w2 ⟨a', c', rfl, ow, hbw⟩
      go_wp2_with fail
      go_ret
      exact ⟨a', c', rfl, ow, hbw⟩
    · have h2 : 255 < first := by have := HF.out; omega
      go_wp2_with fail
      refine (clone_any _ _ _ _ _ _ HS.out hl).mono ?_
      rintro e w2 ⟨a', c', rfl, ow, hbw⟩
      go_wp2_with fail
      go_ret
      exact ⟨a', c', rfl, ow, hbw⟩
  · have HF : Hid (bits < 1 ∨ 8 < bits) := by show _ ∨ _; omega
    clear hb
    go_wp2_with fail
    refine (bitsOk_no _ _ HF.out).mono ?_
    rintro e w1 ⟨rfl, rfl⟩
    go_wp2_with fail
    refine (clone_any _ _ _ _ _ _ HS.out hl).mono ?_
    rintro e w2 ⟨a', c', rfl, ow, hbw⟩
    go_wp2_with fail
    go_ret
    exact ⟨a', c', rfl, ow, hbw⟩

/-- The bits and what stands ahead are as they must be: of any list, nil too. -/
theorem implPfx_good (sa : Option Addr) (len cap B F : Nat) (n : Int) (zs : List Int) (w : World) (hs : Seg w sa len zs) (hl : len ≤ 1099511627776) (h1 : 1 ≤ B) (h8 : B ≤ 8) (hF : F ≤ 255) :
    Calls Tryz.prog 84 #[.slice sa len cap, .int .i64 B, .int .i64 F, .int .i64 n] w fun e w' => ∃ a' cap', e = .returned (.slice a' (zs ++ pfx B F (min n 16777216).toNat).length cap') ∧ Owns w' w.heap.size a' (zs ++ pfx B F (min n 16777216).toNat).length cap' (zs ++ pfx B F (min n 16777216).toNat) ∧ Below w.heap.size w w' := by
  by_cases h0 : (min n 16777216).toNat < 2 ^ B - 1
  · exact implPfx_small sa len cap B F _ n zs w hs hl h1 h8 hF rfl h0
  · exact implPfx_big sa len cap B F _ n zs w hs hl h1 h8 hF rfl (by omega)

theorem implPfx_any (b off len cap : Nat) (bits first n : Int) (zs : List Int) (w : World) (hs : Seg w (some ⟨b, off, none⟩) len zs) (hb : b < w.heap.size) (hl : len ≤ 1099511627776) :
    Calls Tryz.prog 84 #[.slice (some ⟨b, off, none⟩) len cap, .int .i64 bits, .int .i64 first, .int .i64 n] w fun e w' => ∃ a' cap', e = .returned (.slice a' (putPfx zs bits first n).length cap') ∧ Owns w' w.heap.size a' (putPfx zs bits first n).length cap' (putPfx zs bits first n) ∧ Below w.heap.size w w' := by
  by_cases h : 1 ≤ bits ∧ bits ≤ 8 ∧ 0 ≤ first ∧ first ≤ 255
  · obtain ⟨B, rfl⟩ := Int.eq_ofNat_of_zero_le (show 0 ≤ bits by omega)
    obtain ⟨F, rfl⟩ := Int.eq_ofNat_of_zero_le (show 0 ≤ first by omega)
    have e : putPfx zs B F n = zs ++ pfx B F (min n 16777216).toNat := by rw [putPfx, if_pos h, Int.toNat_natCast, Int.toNat_natCast]
    rw [e]
    by_cases h0 : (min n 16777216).toNat < 2 ^ B - 1
    · exact implPfx_small (some ⟨b, off, none⟩) len cap B F _ n zs w hs hl (by omega) (by omega) (by omega) rfl h0
    · exact implPfx_big (some ⟨b, off, none⟩) len cap B F _ n zs w hs hl (by omega) (by omega) (by omega) rfl (by omega)
  · have e : putPfx zs bits first n = zs := by rw [putPfx, if_neg h, List.append_nil]
    rw [e, hs.1]
    exact implPfx_no b off len cap bits first n zs w hs hl h

end Go.Proofs.YtbaijmkghgnleaaGreatDoor



namespace Go.Proofs.YtbaijmkghgnleaaGreatDoor
open Go.RowKit
set_option linter.unusedVariables false

theorem run_lit {P : Program} (w : World) (t e : TypeId) (len : Nat) (parts : Array (Nat × Value)) (cells : Array Value) (i : TypeInfo) (z : Value)
    (h1 : P.underlying t = some (.slice e)) (h2 : P.info? e = some i) (h3 : i.size = 1) (h4 : i.zero = some z) (hlen : len ≤ 1000) (h0 : 1 ≤ len)
    (hf : Instr.fill (fun i => some (i * 1, 1)) ((Array.range (len * 1)).map (z.cells[· % z.cells.size]!)) parts.toList = some cells) :
    (Instr.buildSlice t len parts).run P w = .ok (.slice (some ⟨w.heap.size, 0, none⟩) len len) (w.alloc (.cells cells e)) := by
  have hs : ∀ w, (sizeOf e).run P w = .ok 1 w := fun w => by simp [sizeOf, typeInfo, h2, h3]
  have hz : ∀ w, (zeroValue e).run P w = .ok z w := fun w => by simp [zeroValue, typeInfo, h2, h4]
  have hn : ¬ (len * 1 > 2 ^ 24) := by omega
  have hn0 : ¬ (len * 1 = 0) := by omega
  unfold Instr.buildSlice
  simp only [Sem.run_bind, run_underlying h1, Result.andThen_ok, hs, hn, if_false, hn0, hz, Sem.run_pure, hf]
  simp [newRow]

theorem wpList_lit {P : Program} {w w' : World} {ops : Array Oper} {rest : List Oper} {o : Oper} {a : Act} {Q : Exit → Act → World → Prop} (hg : o.guard = none) (t : TypeId) (len : Nat) (parts : Array (Nat × Operand)) (hop : o.op = .buildSlice t len parts) (v : Value)
    (hrun : (Instr.buildSlice t len (parts.map fun (i, x) => (i, a.eval x))).run P w = .ok v w') (hK : wpList P ops Q rest (a.put o.dst v) w') : wpList P ops Q (o :: rest) a w := by
  refine wpList_plain hg fun K hK' => ?_
  unfold Oper.wp execOp
  simp only [hop, Sem.run_bind, hrun, Result.andThen_ok]
  exact hK' _ _ hK

/-- The body of such a function. -/
def litBody (t : TypeId) (len : Nat) (parts : Array (Nat × Operand)) (p0 p1 : String) : Code :=
  (Code.region 0 #[{ dst := some 0, op := .assign (.const (.slice none 0 0)), type := t, pos := p0, after := #[], guard := none }] false).seq
    ((Code.region 1 #[{ dst := some 1, op := .buildSlice t len parts, type := t, pos := p1, after := #[], guard := none },
      { dst := some 0, op := .assign (.tmp 1), type := t, pos := p1, after := #[{ on := 0, ground := .data }, { on := 0, ground := .phase }], guard := none }] false).seq .ret)

/-- The parts of a literal of these numbers. -/
def litParts (L : List Int) : List (Nat × Operand) := L.zipIdx.map fun (x, i) => (i, .const (.int .i64 x))
def litVals (L : List Int) : List (Nat × Value) := L.zipIdx.map fun (x, i) => (i, .int .i64 x)

theorem eval_parts (a : Act) (L : List Int) : ((litParts L).toArray.map fun (i, x) => (i, a.eval x)).toList = litVals L := by
  simp [litParts, litVals, Act.eval]

theorem lit_calls {P : Program} {f : FuncId} {fn : Func} (hf : P.funcs[f]? = some fn) (t : TypeId) (L : List Int) (p0 p1 : String) (cells : Array Value) (i : TypeInfo)
    (hb : fn.body = some (litBody t L.length (litParts L).toArray p0 p1)) (hn : fn.ntmps = 2) (hr : fn.results = #[.tmp 0])
    (h1 : P.underlying t = some (.slice 3)) (h2 : P.info? 3 = some i) (h3 : i.size = 1) (h4 : i.zero = some (.int .i64 0)) (hlen : L.length ≤ 1000) (h0 : 1 ≤ L.length)
    (hfl : Instr.fill (fun i => some (i * 1, 1)) ((Array.range (L.length * 1)).map ((Value.int .i64 0).cells[· % (Value.int .i64 0).cells.size]!)) (litVals L) = some cells) (w : World) :
    Calls P f #[] w fun e w' => e = .returned (.slice (some ⟨w.heap.size, 0, none⟩) L.length L.length) ∧ w' = w.alloc (.cells cells 3) := by
  have hrun : ∀ (w : World) (a : Act), (Instr.buildSlice t L.length ((litParts L).toArray.map fun (i, x) => (i, a.eval x))).run P w = .ok (.slice (some ⟨w.heap.size, 0, none⟩) L.length L.length) (w.alloc (.cells cells 3)) :=
    fun w a => run_lit w t 3 L.length _ cells i (.int .i64 0) h1 h2 h3 h4 hlen h0 (by rw [eval_parts]; exact hfl)
  generalize L.length = len at *
  generalize hpp : (litParts L).toArray = parts at *
  refine calls_of_wp hf hb ?_
  unfold litBody
  simp only [hn, List.size_toArray, List.length_nil, Nat.reduceSub, Array.replicate_succ, Array.replicate_zero, List.push_toArray, List.append_toArray, List.nil_append, List.cons_append]
  go_wp2_with (refine wpList_lit rfl _ _ _ rfl _ (hrun _ _) ?_)
  refine bodyPost_ret (results_tmp hr _ _ _) rfl ?_
  exact ⟨rfl, rfl⟩

end Go.Proofs.YtbaijmkghgnleaaGreatDoor
