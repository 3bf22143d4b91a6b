/- What the program's PutBig answers: the bytes and behind them those of the number, in memory of its own; nothing that was there is written. For lists of at most 2^40 bytes that are not nil. What the program's Crc answers: the sum of the bytes; nothing is written. For lists of at most 2^40 bytes. What the program's PutRec answers, under its table. -/
import Derived.Test.YtjaihnmhojabfaaGreatDoorM37
import Derived.Test.YtjaihnmhojabfaaGreatDoorM37
import Derived.Test.YtjaihnmhojabfaaGreatDoorM01
import Derived.Test.YtjaihnmhojabfaaGreatDoorM05
import Derived.Test.YtjaihnmhojabfaaGreatDoorM10
import Derived.Deep.CutBlock
namespace Go.Proofs.YtjaihnmhojabfaaGreatDoor
open Go.RowKit
set_option linter.unusedVariables false

/-- 'copy' of bytes into a new row that is at least as long. -/
theorem copy_bytes (w1 : World) (g len c b off cap : Nat) (zs : List Int) (hs : Seg w1 (some ⟨b, off, none⟩) len zs) (hg : w1.heap[g]? = some (.cells (List.replicate c (Value.int .u8 0)).toArray 5 (0, 0))) (hc : len ≤ c) (w : World) (hb : Below g w w1) :
    ∃ w2, (Builtin.copy_ #[22, 22] 3 #[.slice (some ⟨g, 0, none⟩) len c, .slice (some ⟨b, off, none⟩) len cap]).run Tryz.prog w1 = .ok (.int .i64 len) w2 ∧
      w2.heap[g]? = some (.cells (zs.map (Value.int .u8) ++ List.replicate (c - len) (Value.int .u8 0)).toArray 5 (0, 0)) ∧ Below g w w2 := by
  obtain ⟨i0, hi, hz0, hz1, hz2⟩ := info_parts Tryz.info5
  have hzl : zs.length = len := hs.1
  have hr := run_copy_row (P := Tryz.prog) w1 22 22 3 5 g 0 len c ⟨b, off, none⟩ len cap _ 5 (zs.map (Value.int .u8)) Tryz.underlying22 (by rw [hi]; simp [hz1]) hg (by simp [hzl]) (cells_ints hs) (by simp [hzl]; omega) (ints_one zs)
  have hr2 : (Builtin.copy_ #[22, 22] 3 #[.slice (some ⟨g, 0, none⟩) len c, .slice (some ⟨b, off, none⟩) len cap]).run Tryz.prog w1 = .ok (.int .i64 len) (w1.setRow g (zs.map (Value.int .u8) ++ List.replicate (c - len) (Value.int .u8 0)).toArray) := by
    rw [hr]; simp [goInt, hzl]
  exact ⟨_, hr2, setRow_heap w1 g _ _ 5 _ hg, below_setRow hb (Nat.le_refl _) _⟩

theorem copy_any (w1 : World) (g len c : Nat) (sa : Option Addr) (cap : Nat) (zs : List Int) (hs : Seg w1 sa len zs) (hg : w1.heap[g]? = some (.cells (List.replicate c (Value.int .u8 0)).toArray 5 (0, 0))) (hc : len ≤ c) (w : World) (hb : Below g w w1) :
    ∃ w2, (Builtin.copy_ #[22, 22] 3 #[.slice (some ⟨g, 0, none⟩) len c, .slice sa len cap]).run Tryz.prog w1 = .ok (.int .i64 len) w2 ∧
      w2.heap[g]? = some (.cells (zs.map (Value.int .u8) ++ List.replicate (c - len) (Value.int .u8 0)).toArray 5 (0, 0)) ∧ Below g w w2 := by
  rcases hs.2.2 with h | ⟨b, off, rfl, _⟩
  · subst h
    obtain rfl : zs = [] := List.eq_nil_of_length_eq_zero hs.1
    refine ⟨w1, ?_, by simpa using hg, hb⟩
    obtain ⟨i0, hi, hz0, hz1, hz2⟩ := info_parts Tryz.info5
    cases sa with
    | none => simp [Builtin.copy_, run_underlying Tryz.underlying22, sizeOf, typeInfo, hi, Builtin.lenOf, Builtin.firstCells, storeCells, goInt]
    | some ad => simp [Builtin.copy_, run_underlying Tryz.underlying22, sizeOf, typeInfo, hi, Builtin.lenOf, Builtin.firstCells, loadCells, loadCellsFrom, storeCells, goInt]
  · exact copy_bytes w1 g len c b off cap zs hs hg hc w hb

set_option maxRecDepth 10000 in
set_option maxHeartbeats 400000 in
theorem implPut_yes (sa : Option Addr) (len cap n k : Nat) (zs : List Int) (w : World) (hs : Seg w sa len zs) (hl : len ≤ 1099511627776) (hn : n ≤ 9223372036854775807) (h1 : 1 ≤ k) (h8 : k ≤ 8) :
    Calls Tryz.prog 104 #[.slice sa len cap, .int .i64 n, .int .i64 k] w fun e w' => ∃ a' cap', e = .returned (.slice a' (len + k) cap') ∧ Owns w' w.heap.size a' (len + k) cap' (zs ++ pbl n k k) ∧ Below w.heap.size w w' := by
  obtain ⟨i0, hi, hz0, hz1, hz2⟩ := info_parts Tryz.info5
  have HS : Hid (Seg w sa len zs) := hs
  have hzl : zs.length = len := hs.1
  clear hs
  have hk1 : (1 : Int) ≤ (k : Int) := by omega
  have hk8 : (k : Int) ≤ 8 := by omega
  have hn0 : (0 : Int) ≤ (n : Int) := by omega
  have hd1 : decide ((k : Int) < 1) = false := by simp; omega
  have hd2 : decide ((8 : Int) < (k : Int)) = false := by simp; omega
  go_enter Tryz.func104, Tryz.ntmps104
  go_wp2_with (first | (at_make; refine wpList_make_room _ rfl _ _ 22 rfl 5 i0 (.int .u8 0) Tryz.underlying22 hi hz0 hz1 rfl hz2 _ _ _ _ len (len + k) rfl rfl rfl (by omega) (by omega) (by omega) ?_; intro w1 hg1 hb1; refine Hid.out ?_))
  refine hidden ?_
  have HG1 : Hid (w1.heap[w.heap.size]? = some (.cells (List.replicate (len + k) (Value.int .u8 0)).toArray 5 (0, 0))) := hg1
  have HB1 : Hid (Below w.heap.size w w1) := hb1
  clear hg1 hb1
  have HS1 : Hid (Seg w1 sa len zs) := HS.out.below HB1.out
  obtain ⟨w2, hrun, hg2, hb2⟩ := copy_any w1 w.heap.size len (len + k) sa cap zs HS1.out HG1.out (by omega) w HB1.out
  go_wp2
  clear hrun
  have HO : Hid (w2.ownsRow w.heap.size 5 1 (.slice (some ⟨w.heap.size, 0, none⟩) len (len + k)) (len + 0) ((zs ++ pbl n k 0).map (Value.int .u8))) := by
    show World.ownsRow _ _ _ _ _ _ _
    have h := own_of_row hg2 (base := w.heap.size) (Nat.le_refl _) (n := len) (c := len + k) (by simp [hzl]) (by omega) (by unfold maxLen; omega)
    simpa [pbl, hzl] using h
  have HB : Hid (Below w.heap.size w w2) := hb2
  clear hg2 hb2 HG1 HB1 HS1
  go_loopw [7, 8] (fun v i wr => ∃ t : Nat, t ≤ k ∧ i = .int .i64 (8 * ((k : Int) - 1 - t)) ∧ Hid (wr.ownsRow w.heap.size 5 1 v (len + t) ((zs ++ pbl n k t).map (Value.int .u8))) ∧ Hid (Below w.heap.size w wr)) (fun _ i _ => (intOf i + 8).toNat)
  case atStart => exact ⟨0, Nat.zero_le _, by go_num, HO, HB⟩
  case round =>
    clear HO HB
    obtain ⟨t, ht, rfl, HO, HB⟩ := hrel
    by_cases hlt : t < k
    · have hsz := HB.out.size
      have HN : Hid (∀ j u, [Value.int .u8 (byteOf n (k - 1 - t))][j]? = some u → (wr.alloc (.cells #[.int .u8 (byteOf n (k - 1 - t))] 5)).cell? ((⟨wr.heap.size, 0, none⟩ : Addr).add j) = some u) := one_new wr (byteOf n (k - 1 - t))
      go_wp2_with (at_builtin; refine wpList_append_own _ rfl _ _ 22 rfl w.heap.size 5 i0 (.int .u8 0) 1 1 Tryz.underlying22 hi hz0 hz1 hz2 rfl (by decide) u7 (len + t) _ rfl (HO.out.alloc _) ⟨wr.heap.size, 0, none⟩ 1 1 [.int .u8 (byteOf n (k - 1 - t))] rfl rfl HN.out (ints_one [byteOf n (k - 1 - t)]) (by unfold maxLen; omega) (by omega) (by simp; omega) ?_; intro v2 w2 hown2 hgrow2 _; refine Hid.out ?_)
      refine hidden ?_
      have HO2 : Hid (w2.ownsRow w.heap.size 5 1 v2 (len + (t + 1)) ((zs ++ pbl n k (t + 1)).map (Value.int .u8))) := by
        show World.ownsRow _ _ _ _ _ _ _
        rw [pbl_succ, ← List.append_assoc, List.map_append]
        exact hown2
      have HB2 : Hid (Below w.heap.size w w2) := (HB.out.alloc (by omega) _).grown hgrow2 (by simp; omega) (fun q hq => (HO.out.lt q hq).1)
      clear hown2 hgrow2 HN HO HB
      go_wp2
      go_roundw
      case rel => exact ⟨t + 1, by omega, by go_num, HO2, HB2⟩
      case measure => simp [intOf]; omega
    · have htk : t = k := by omega
      subst htk
      obtain ⟨a', cap', rfl⟩ := shape_of_owns HO.out
      go_wp2
      go_ret
      refine ⟨a', cap', rfl, ⟨HO.out, ?_⟩, HB.out⟩
      intro x hx
      rcases List.mem_append.1 hx with hx | hx
      · exact HS.out.2.1 x hx
      · exact pbl_range _ _ _ x hx

set_option maxRecDepth 10000 in
set_option maxHeartbeats 400000 in
theorem implPut_neg (sa : Option Addr) (len cap k : Nat) (n : Int) (zs : List Int) (w : World) (hs : Seg w sa len zs) (hl : len ≤ 1099511627776) (hn : n < 0) (h1 : 1 ≤ k) (h8 : k ≤ 8) :
    Calls Tryz.prog 104 #[.slice sa len cap, .int .i64 n, .int .i64 k] w fun e w' => ∃ a' cap', e = .returned (.slice a' (len + k) cap') ∧ Owns w' w.heap.size a' (len + k) cap' (zs ++ pbl 0 k k) ∧ Below w.heap.size w w' := by
  obtain ⟨i0, hi, hz0, hz1, hz2⟩ := info_parts Tryz.info5
  have HS : Hid (Seg w sa len zs) := hs
  have hzl : zs.length = len := hs.1
  clear hs
  have hk1 : (1 : Int) ≤ (k : Int) := by omega
  have hk8 : (k : Int) ≤ 8 := by omega
  have hd1 : decide ((k : Int) < 1) = false := by simp; omega
  have hd2 : decide ((8 : Int) < (k : Int)) = false := by simp; omega
  go_enter Tryz.func104, Tryz.ntmps104
  go_wp2_with (first | (at_make; refine wpList_make_room _ rfl _ _ 22 rfl 5 i0 (.int .u8 0) Tryz.underlying22 hi hz0 hz1 rfl hz2 _ _ _ _ len (len + k) rfl rfl rfl (by omega) (by omega) (by omega) ?_; intro w1 hg1 hb1; refine Hid.out ?_))
  refine hidden ?_
  have HG1 : Hid (w1.heap[w.heap.size]? = some (.cells (List.replicate (len + k) (Value.int .u8 0)).toArray 5 (0, 0))) := hg1
  have HB1 : Hid (Below w.heap.size w w1) := hb1
  clear hg1 hb1
  have HS1 : Hid (Seg w1 sa len zs) := HS.out.below HB1.out
  obtain ⟨w2, hrun, hg2, hb2⟩ := copy_any w1 w.heap.size len (len + k) sa cap zs HS1.out HG1.out (by omega) w HB1.out
  go_wp2
  clear hrun
  have HO : Hid (w2.ownsRow w.heap.size 5 1 (.slice (some ⟨w.heap.size, 0, none⟩) len (len + k)) (len + 0) ((zs ++ pbl 0 k 0).map (Value.int .u8))) := by
    show World.ownsRow _ _ _ _ _ _ _
    have h := own_of_row hg2 (base := w.heap.size) (Nat.le_refl _) (n := len) (c := len + k) (by simp [hzl]) (by omega) (by unfold maxLen; omega)
    simpa [pbl, hzl] using h
  have HB : Hid (Below w.heap.size w w2) := hb2
  clear hg2 hb2 HG1 HB1 HS1
  go_loopw [7, 8] (fun v i wr => ∃ t : Nat, t ≤ k ∧ i = .int .i64 (8 * ((k : Int) - 1 - t)) ∧ Hid (wr.ownsRow w.heap.size 5 1 v (len + t) ((zs ++ pbl 0 k t).map (Value.int .u8))) ∧ Hid (Below w.heap.size w wr)) (fun _ i _ => (intOf i + 8).toNat)
  case atStart => exact ⟨0, Nat.zero_le _, by go_num, HO, HB⟩
  case round =>
    clear HO HB
    obtain ⟨t, ht, rfl, HO, HB⟩ := hrel
    by_cases hlt : t < k
    · have hsz := HB.out.size
      have HN : Hid (∀ j u, [Value.int .u8 ((0 : Int))][j]? = some u → (wr.alloc (.cells #[.int .u8 ((0 : Int))] 5)).cell? ((⟨wr.heap.size, 0, none⟩ : Addr).add j) = some u) := one_new wr ((0 : Int))
      go_wp2_with (at_builtin; refine wpList_append_own _ rfl _ _ 22 rfl w.heap.size 5 i0 (.int .u8 0) 1 1 Tryz.underlying22 hi hz0 hz1 hz2 rfl (by decide) u7 (len + t) _ rfl (HO.out.alloc _) ⟨wr.heap.size, 0, none⟩ 1 1 [.int .u8 ((0 : Int))] rfl rfl HN.out (ints_one [(0 : Int)]) (by unfold maxLen; omega) (by omega) (by simp; omega) ?_; intro v2 w2 hown2 hgrow2 _; refine Hid.out ?_)
      refine hidden ?_
      have HO2 : Hid (w2.ownsRow w.heap.size 5 1 v2 (len + (t + 1)) ((zs ++ pbl 0 k (t + 1)).map (Value.int .u8))) := by
        show World.ownsRow _ _ _ _ _ _ _
        rw [pbl_succ, byteOf_zero, ← List.append_assoc, List.map_append]
        exact hown2
      have HB2 : Hid (Below w.heap.size w w2) := (HB.out.alloc (by omega) _).grown hgrow2 (by simp; omega) (fun q hq => (HO.out.lt q hq).1)
      clear hown2 hgrow2 HN HO HB
      go_wp2
      go_roundw
      case rel => exact ⟨t + 1, by omega, by go_num, HO2, HB2⟩
      case measure => simp [intOf]; omega
    · have htk : t = k := by omega
      subst htk
      obtain ⟨a', cap', rfl⟩ := shape_of_owns HO.out
      go_wp2
      go_ret
      refine ⟨a', cap', rfl, ⟨HO.out, ?_⟩, HB.out⟩
      intro x hx
      rcases List.mem_append.1 hx with hx | hx
      · exact HS.out.2.1 x hx
      · exact pbl_range _ _ _ x hx

set_option maxRecDepth 10000 in
set_option maxHeartbeats 400000 in
theorem implPut_no (sa : Option Addr) (len cap : Nat) (n k : Int) (zs : List Int) (w : World) (hs : Seg w sa len zs) (hl : len ≤ 1099511627776) (hk : k < 1 ∨ 8 < k) :
    Calls Tryz.prog 104 #[.slice sa len cap, .int .i64 n, .int .i64 k] w fun e w' => ∃ a' cap', e = .returned (.slice a' len cap') ∧ Owns w' w.heap.size a' len cap' (zs) ∧ Below w.heap.size w w' := by
  obtain ⟨i0, hi, hz0, hz1, hz2⟩ := info_parts Tryz.info5
  have HS : Hid (Seg w sa len zs) := hs
  have hzl : zs.length = len := hs.1
  clear hs
  have HK : Hid (k < 1 ∨ 8 < k) := hk
  clear hk
  by_cases hk1 : k < 1
  · have hd1 : decide (k < 1) = true := by simp; omega
    by_cases hn0 : n < 0
    all_goals
      go_enter Tryz.func104, Tryz.ntmps104
      go_wp2_with (first | (at_make; refine wpList_make_room _ rfl _ _ 22 rfl 5 i0 (.int .u8 0) Tryz.underlying22 hi hz0 hz1 rfl hz2 _ _ _ _ len len rfl rfl rfl (by omega) (by omega) (by omega) ?_; intro w1 hg1 hb1; refine Hid.out ?_))
      refine hidden ?_
      have HG1 : Hid (w1.heap[w.heap.size]? = some (.cells (List.replicate len (Value.int .u8 0)).toArray 5 (0, 0))) := hg1
      have HB1 : Hid (Below w.heap.size w w1) := hb1
      clear hg1 hb1
      have HS1 : Hid (Seg w1 sa len zs) := HS.out.below HB1.out
      obtain ⟨w2, hrun, hg2, hb2⟩ := copy_any w1 w.heap.size len len sa cap zs HS1.out HG1.out (by omega) w HB1.out
      go_wp2
      clear hrun
      have HO : Hid (Owns w2 w.heap.size (some ⟨w.heap.size, 0, none⟩) len len zs) := by
        have h := own_of_row hg2 (base := w.heap.size) (Nat.le_refl _) (n := len) (c := len) (by simp [hzl]) (by omega) (by unfold maxLen; omega)
        rw [List.take_append_of_le_length (by simp [hzl]), List.take_of_length_le (by simp [hzl])] at h
        exact ⟨h, HS.out.2.1⟩
      have HB : Hid (Below w.heap.size w w2) := hb2
      clear hg2 hb2 HG1 HB1 HS1
      refine wp_loop_rounds 1 ?_
      rw [rounds_succ]
      go_wp2
      go_ret
      exact ⟨_, _, rfl, HO.out, HB.out⟩
  · have hk8 : 8 < k := by have := HK.out; omega
    have hd1 : decide (k < 1) = false := by simp; omega
    have hd2 : decide (8 < k) = true := by simp; omega
    by_cases hn0 : n < 0
    all_goals
      go_enter Tryz.func104, Tryz.ntmps104
      go_wp2_with (first | (at_make; refine wpList_make_room _ rfl _ _ 22 rfl 5 i0 (.int .u8 0) Tryz.underlying22 hi hz0 hz1 rfl hz2 _ _ _ _ len len rfl rfl rfl (by omega) (by omega) (by omega) ?_; intro w1 hg1 hb1; refine Hid.out ?_))
      refine hidden ?_
      have HG1 : Hid (w1.heap[w.heap.size]? = some (.cells (List.replicate len (Value.int .u8 0)).toArray 5 (0, 0))) := hg1
      have HB1 : Hid (Below w.heap.size w w1) := hb1
      clear hg1 hb1
      have HS1 : Hid (Seg w1 sa len zs) := HS.out.below HB1.out
      obtain ⟨w2, hrun, hg2, hb2⟩ := copy_any w1 w.heap.size len len sa cap zs HS1.out HG1.out (by omega) w HB1.out
      go_wp2
      clear hrun
      have HO : Hid (Owns w2 w.heap.size (some ⟨w.heap.size, 0, none⟩) len len zs) := by
        have h := own_of_row hg2 (base := w.heap.size) (Nat.le_refl _) (n := len) (c := len) (by simp [hzl]) (by omega) (by unfold maxLen; omega)
        rw [List.take_append_of_le_length (by simp [hzl]), List.take_of_length_le (by simp [hzl])] at h
        exact ⟨h, HS.out.2.1⟩
      have HB : Hid (Below w.heap.size w w2) := hb2
      clear hg2 hb2 HG1 HB1 HS1
      refine wp_loop_rounds 1 ?_
      rw [rounds_succ]
      go_wp2
      go_ret
      exact ⟨_, _, rfl, HO.out, HB.out⟩

theorem implPut_any (sa : Option Addr) (len cap : Nat) (n k : Int) (zs : List Int) (w : World) (hs : Seg w sa len zs) (hl : len ≤ 1099511627776) (hn : n ≤ 9223372036854775807) :
    Calls Tryz.prog 104 #[.slice sa len cap, .int .i64 n, .int .i64 k] w fun e w' => ∃ a' cap', e = .returned (.slice a' (pb zs n k).length cap') ∧ Owns w' w.heap.size a' (pb zs n k).length cap' (pb zs n k) ∧ Below w.heap.size w w' := by
  have hz := hs.1
  by_cases hk : 1 ≤ k ∧ k ≤ 8
  · obtain ⟨K, rfl⟩ := Int.eq_ofNat_of_zero_le (show 0 ≤ k by omega)
    have e : pb zs n K = zs ++ pbl n.toNat K K := by rw [pb, if_pos hk, Int.toNat_natCast]
    have el : (zs ++ pbl n.toNat K K).length = len + K := by rw [List.length_append, pbl_len, hz]
    rw [e, el]
    by_cases h0 : n < 0
    · rw [show n.toNat = 0 by omega]
      exact implPut_neg sa len cap K n zs w hs hl h0 (by omega) (by omega)
    · obtain ⟨M, rfl⟩ := Int.eq_ofNat_of_zero_le (show 0 ≤ n by omega)
      rw [Int.toNat_natCast]
      exact implPut_yes sa len cap M K zs w hs hl (by omega) (by omega) (by omega)
  · have e : pb zs n k = zs := by rw [pb, if_neg hk, List.append_nil]
    rw [e, hz]
    exact implPut_no sa len cap n k zs w hs hl (by omega)

end Go.Proofs.YtjaihnmhojabfaaGreatDoor

namespace Go.Proofs.YtjaihnmhojabfaaGreatDoor
open Go.RowKit

set_option maxHeartbeats 400000 in
theorem crcByte_any (s : Nat) (x : Int) (w : World) (hs : s < 4294967296) (hx0 : 0 ≤ x) (hx1 : x ≤ 255) :
    Calls Tryz.prog 58 #[.int .u32 s, .int .u8 x] w fun e w' => e = .returned (.int .u32 ((crcN 8 (s ^^^ x.toNat) : Nat) : Int)) ∧ w' = w := by
  have hxor := u32_xor_int s x hs hx0 (by omega)
  have hq := xor_lt32 s x.toNat hs (by omega)
  generalize s ^^^ x.toNat = q at *
  go_enter Tryz.func58, Tryz.ntmps58
  go_wp2
  clear hxor
  go_loop [0, 10] (fun m i => ∃ j : Nat, j ≤ 8 ∧ i = .int .i64 j ∧ m = .int .u32 ((crcN j q : Nat) : Int)) (fun _ i => 8 - (intOf i).toNat)
  case atStart => exact ⟨0, Nat.zero_le _, rfl, rfl⟩
  case round =>
    obtain ⟨j, hj, rfl, rfl⟩ := hrel
    have hb := crcN_lt j q hq
    have hsn : Hid (crcN (j + 1) q = crc1 (crcN j q)) := rfl
    generalize hm0 : crcN j q = m at *
    have HM : Hid (crcN j q = m) := hm0
    clear hm0
    by_cases hlt : j < 8
    · have ht := u32_turn m hb
      rcases Nat.mod_two_eq_zero_or_one m with h0 | h0
      · have ha : bits .and .u32 (m : Int) 1 = 0 := by rw [u32_and1 m hb]; omega
        go_wp2
        go_round
        case rel => exact ⟨j + 1, by omega, by go_num, by rw [hsn.out, crc1, if_neg (by omega)]; go_num⟩
        case measure => simp [intOf]; omega
      · have ha : bits .and .u32 (m : Int) 1 = 1 := by rw [u32_and1 m hb]; omega
        go_wp2
        go_round
        case rel => exact ⟨j + 1, by omega, by go_num, by rw [hsn.out, crc1, if_pos (by omega)]⟩
        case measure => simp [intOf]; omega
    · go_wp2
      go_ret
      have : j = 8 := by omega
      subst this
      exact ⟨ret_int (by rw [HM.out]), rfl⟩

set_option maxHeartbeats 400000 in
theorem implCrc_any (a : Option Addr) (len cap : Nat) (zs : List Int) (w : World) (hs : Seg w a len zs) (hl : len ≤ 1099511627776) :
    Calls Tryz.prog 19 #[.slice a len cap] w fun e w' => e = .returned (.int .i64 ((crcL zs ^^^ 4294967295 : Nat) : Int)) ∧ w' = w := by
  have HS : Hid (Seg w a len zs) := hs
  clear hs
  go_enter Tryz.func19, Tryz.ntmps19
  go_wp2
  go_loop [3, 8] (fun m i => ∃ j : Nat, j ≤ len ∧ i = .int .i64 j ∧ m = .int .u32 ((crcL (zs.take j) : Nat) : Int)) (fun _ i => len - (intOf i).toNat)
  case atStart => exact ⟨0, Nat.zero_le _, rfl, rfl⟩
  case round =>
    obtain ⟨j, hj, rfl, rfl⟩ := hrel
    have hb := crcL_lt (zs.take j) (fun n hn => HS.out.2.1 n (List.mem_of_mem_take hn))
    by_cases hlt : j < len
    · have hsn : Hid (crcL (zs.take (j + 1)) = crcN 8 (crcL (zs.take j) ^^^ (zs.getD j 0).toNat)) := by
        show crcL _ = _
        rw [take_snoc zs j (by have := HS.out.1; omega), crcL_snoc]
      obtain ⟨b, off, rfl, hb2, hc⟩ : ∃ b off, a = some ⟨b, off, none⟩ ∧ b < w.heap.size ∧ ∀ i, i < len → w.cell? ⟨b, off + i, none⟩ = some (.int .u8 (zs.getD i 0)) := by
        rcases HS.out.2.2 with h | h
        · omega
        · exact h
      have hcell : w.cell? ⟨b, off + j, none⟩ = some (.int .u8 (zs.getD j 0)) := hc j hlt
      clear hc
      obtain ⟨hx0, hx1⟩ := HS.out.range j
      generalize crcL (zs.take j) = m at *
      generalize zs.getD j 0 = x at *
      go_wp2_with (go_at_call 58; refine (crcByte_any m x _ hb hx0 hx1).mono ?_; rintro e w' ⟨rfl, rfl⟩)
      go_round
      case rel => exact ⟨j + 1, by omega, by go_num, by rw [hsn.out]⟩
      case measure => simp [intOf]; omega
    · have hjl : j = len := by omega
      subst hjl
      have hz : zs.take j = zs := List.take_of_length_le (by have := HS.out.1; omega)
      rw [hz] at hb ⊢
      clear hz
      have hsg : IntKind.u32.signed = false := rfl
      have hr := u32_not (crcL zs) hb
      have hr2 := xor_lt32 (crcL zs) 4294967295 hb (by omega)
      generalize hrr : crcL zs ^^^ 4294967295 = r at hr hr2
      have HRR : Hid (crcL zs ^^^ 4294967295 = r) := hrr
      clear hrr
      go_wp2
      go_ret
      exact ⟨ret_int (by rw [HRR.out]), rfl⟩

end Go.Proofs.YtjaihnmhojabfaaGreatDoor

namespace Go.Proofs.YtjaihnmhojabfaaGreatDoor
open Go.RowKit
set_option linter.unusedVariables false

/-- An append, and where its row lies. -/
theorem wpl_append_app {P : Program} {w : World} {ops : Array Oper} {rest : List Oper} {o : Oper} {a : Act} {Q : Exit → Act → World → Prop} (hgd : o.guard = none) (s x : Operand) (t tx : TypeId)
    (ho : o.op = .call { callee := .builtin .append, args := #[s, x], argTypes := #[t, tx] })
    (base : Nat) (e : TypeId) (i : TypeInfo) (z : Value) (size bytes : Nat) (ht : P.underlying t = some (.slice e)) (hi : P.info? e = some i) (hz : i.zero = some z)
    (hsize : i.size = size) (hby : i.bytes = bytes) (hzs : z.cells.size = size) (hsz : 0 < size)
    (g n cap : Nat) (xs : List Value) (hs : a.eval s = .slice (some ⟨g, 0, none⟩) n cap) (hown : w.ownsRow base e size (.slice (some ⟨g, 0, none⟩) n cap) n xs)
    (u : Value) (m : Nat) (news : List Value) (hx : a.eval x = u) (hsrc : Src P size tx u m news w)
    (h63 : n + m ≤ maxLen) (hbytes : (n + m) * bytes ≤ 140737488355328) (hbase : base ≤ w.heap.size) (M : Nat) (hM : n + m = M) (hM0 : 0 < M) (ys : List Value) (hys : xs ++ news = ys)
    (h : ∀ g' c' w', w'.ownsRow base e size (.slice (some ⟨g', 0, none⟩) M c') M ys → w.grownBy w' (some g) → wpList P ops Q rest (a.put o.dst (.slice (some ⟨g', 0, none⟩) M c')) w') : wpList P ops Q (o :: rest) a w := by
  refine wpList_append_any hgd s x t tx ho base e i z size bytes ht hi hz hsize hby hzs hsz g n cap xs hs hown u m news hx hsrc h63 hbytes hbase ?_
  intro v' w' h2 h3
  rw [hM, hys] at h2
  rcases h2.2 with ⟨_, h0⟩ | ⟨g', c', cur, rfl, _⟩
  · omega
  · exact h g' c' w' h2 h3

/-- The program's PutBig, and where its row lies. -/
theorem implPutL (sa : Option Addr) (len cap n k m : Nat) (K : Int) (hK : K = (k : Int)) (zs ys : List Int) (w : World) (hs : Seg w sa len zs) (hl : len ≤ 1099511627776) (hn : n ≤ 9223372036854775807) (h1 : 1 ≤ k) (h8 : k ≤ 8) (hm : len + k = m) (hys : zs ++ pbl n k k = ys) :
    Calls Tryz.prog 104 #[.slice sa len cap, .int .i64 n, .int .i64 K] w fun e w' => (∃ g c, e = .returned (.slice (some ⟨g, 0, none⟩) m c) ∧ Owns w' w.heap.size (some ⟨g, 0, none⟩) m c ys) ∧ Below w.heap.size w w' := by
  subst hK
  refine (implPut_yes sa len cap n k zs w hs hl hn h1 h8).mono ?_
  rintro e w' ⟨a', c', rfl, ho, hbl⟩
  rw [hm, hys] at ho
  obtain ⟨g, rfl, _, _⟩ := owns_at ho (by omega)
  exact ⟨⟨g, c', by rw [hm], ho⟩, hbl⟩

set_option maxRecDepth 10000 in
set_option maxHeartbeats 1600000 in
theorem implPutR_any (e q k : Int) (id : ByteArray) (n : Int) (a : Option Addr) (d ca : Nat) (zs : List Int) (w : World) (hs : Seg w a d zs) (hi : id.size ≤ maxLen) (hd : d ≤ 1099511627776) (ht : RecT w) :
    Calls Tryz.prog 79 #[.agg #[.int .i64 e, .int .i64 q, .int .i64 k, .string id, .int .i64 n, .slice a d ca]] w fun r w' => r = .returned (.string (putT e q k id n zs)) ∧ Below w.heap.size w w' := by
  obtain ⟨w0, hw0⟩ : ∃ w0, w.alloc (.cells #[.int .i64 e, .int .i64 q, .int .i64 k, .string id, .int .i64 n, .slice a d ca] 69) = w0 := ⟨_, rfl⟩
  have HE : Hid (w.alloc (.cells #[.int .i64 e, .int .i64 q, .int .i64 k, .string id, .int .i64 n, .slice a d ca] 69) = w0) := hw0
  have HQ : Hid (BoxN w0 w.heap.size 69 [.int .i64 e, .int .i64 q, .int .i64 k, .string id, .int .i64 n, .slice a d ca]) := by show BoxN _ _ _ _; rw [← hw0]; exact BoxN.new _ _ _
  have HB : Hid (Below w.heap.size w w0) := by show Below _ _ _; rw [← hw0]; exact (Below.refl _ _).alloc (Nat.le_refl _) _
  have HS : Hid (Seg w0 a d zs) := hs.below HB.out
  have HL : Hid (zs.length = d) := hs.1
  have ht0 : RecT w0 := ht.below HB.out
  clear hw0 hs ht
  obtain ⟨c0, c1, c2, c3, c4, c5⟩ := (show _ ∧ _ ∧ _ ∧ _ ∧ _ ∧ _ from ⟨HQ.out.cell 0 rfl, HQ.out.cell 1 rfl, HQ.out.cell 2 rfl, HQ.out.cell 3 rfl, HQ.out.cell 4 rfl, HQ.out.cell 5 rfl⟩)
  go_enter Tryz.func79, Tryz.ntmps79
  go_upto_region 1 with fail
  rw [HE.out]
  clear HE
  go_wp2_with fail
  refine (implRok_any e q k id n a d ca w0 hi hd ht0).mono ?_
  rintro r y0 ⟨rfl, hb1⟩
  have HB0 : Hid (Below w.heap.size w y0) := HB.out.trans (hb1.mono HB.out.size)
  have HS0 : Hid (∀ W, Below y0.heap.size y0 W → Seg W a d zs) := fun W h => (HS.out.below hb1).below h
  have HQ0 : Hid (∀ W, Below y0.heap.size y0 W → BoxN W w.heap.size 69 [.int .i64 e, .int .i64 q, .int .i64 k, .string id, .int .i64 n, .slice a d ca]) := fun W h => (HQ.out.stays hb1).stays h
  clear c0 c1 c2 c3 c4 c5 hb1 HQ HS HB ht0
  cases hok : okRec e q k id n d
  · have HF : Hid (putT e q k id n zs = ⟨#[]⟩) := by show _ = _; rw [putT, HL.out, hok]; rfl
    clear hok
    go_wp2_with fail
    go_ret
    exact ⟨by rw [HF.out]; rfl, HB0.out⟩
  obtain ⟨he, hq, hk, hid, hn, hd2⟩ := okRec_iff hok
  obtain ⟨E, rfl⟩ := Int.eq_ofNat_of_zero_le he.1
  obtain ⟨Q, rfl⟩ := Int.eq_ofNat_of_zero_le hq.1
  obtain ⟨K, rfl⟩ := Int.eq_ofNat_of_zero_le (show 0 ≤ k by omega)
  obtain ⟨M, rfl⟩ := Int.eq_ofNat_of_zero_le hn.1
  have HF : Hid (putT E Q K id M zs = txU (sumB (recB E Q K id M zs))) := by show _ = _; rw [putT, HL.out, hok]; rfl
  have hzd := HL.out
  obtain ⟨i0, ji, jz0, jz1, jz2⟩ := info_parts Tryz.info5
  clear hok
  have H0 : Hid (Below y0.heap.size y0 y0) := Below.refl _ _
  have c0 := (HQ0.out _ H0.out).cell 0 rfl
  go_wp2_with fail
  refine (implPutL none 0 0 E 3 3 3 rfl [] (pbl E 3 3) _ ⟨rfl, by simp, .inl rfl⟩ (by omega) (by omega) (by omega) (by omega) rfl rfl).mono ?_
  rintro r y1 ⟨⟨g1, cc1, rfl, own⟩, hb⟩
  have HO1 : Hid (Owns y1 y0.heap.size (some ⟨g1, 0, none⟩) 3 cc1 (pbl E 3 3)) := owns_low own H0.out.size
  have H1 : Hid (Below y0.heap.size y0 y1) := H0.out.trans (hb.mono H0.out.size)
  clear own hb H0 c0
  have c1 := (HQ0.out _ H1.out).cell 1 rfl
  go_wp2_with fail
  refine (implPutL (some ⟨g1, 0, none⟩) 3 cc1 Q 2 5 2 rfl (pbl E 3 3) (pbl E 3 3 ++ pbl Q 2 2) _ HO1.out.seg (by omega) (by omega) (by omega) (by omega) rfl rfl).mono ?_
  rintro r y2 ⟨⟨g2, cc2, rfl, own⟩, hb⟩
  have HO2 : Hid (Owns y2 y0.heap.size (some ⟨g2, 0, none⟩) 5 cc2 (pbl E 3 3 ++ pbl Q 2 2)) := owns_low own H1.out.size
  have H2 : Hid (Below y0.heap.size y0 y2) := H1.out.trans (hb.mono H1.out.size)
  clear own hb H1 HO1 c1
  have c2 := (HQ0.out _ H2.out).cell 2 rfl
  go_wp2_with fail
  refine (implPutL (some ⟨g2, 0, none⟩) 5 cc2 K 1 6 1 rfl (pbl E 3 3 ++ pbl Q 2 2) (pbl E 3 3 ++ pbl Q 2 2 ++ pbl K 1 1) _ HO2.out.seg (by omega) (by omega) (by omega) (by omega) rfl rfl).mono ?_
  rintro r y3 ⟨⟨g3, cc3, rfl, own⟩, hb⟩
  have HO3 : Hid (Owns y3 y0.heap.size (some ⟨g3, 0, none⟩) 6 cc3 (pbl E 3 3 ++ pbl Q 2 2 ++ pbl K 1 1)) := owns_low own H2.out.size
  have H3 : Hid (Below y0.heap.size y0 y3) := H2.out.trans (hb.mono H2.out.size)
  clear own hb H2 HO2 c2
  have c3 := (HQ0.out _ H3.out).cell 3 rfl
  go_wp2_with fail
  refine (implPutL (some ⟨g3, 0, none⟩) 6 cc3 id.size 1 7 1 rfl (pbl E 3 3 ++ pbl Q 2 2 ++ pbl K 1 1) (pbl E 3 3 ++ pbl Q 2 2 ++ pbl K 1 1 ++ pbl id.size 1 1) _ HO3.out.seg (by omega) (by omega) (by omega) (by omega) rfl rfl).mono ?_
  rintro r y4 ⟨⟨g4, cc4, rfl, own⟩, hb⟩
  have HO4 : Hid (Owns y4 y0.heap.size (some ⟨g4, 0, none⟩) 7 cc4 (pbl E 3 3 ++ pbl Q 2 2 ++ pbl K 1 1 ++ pbl id.size 1 1)) := owns_low own H3.out.size
  have H4 : Hid (Below y0.heap.size y0 y4) := H3.out.trans (hb.mono H3.out.size)
  clear own hb H3 HO3 c3
  have c3 := (HQ0.out _ H4.out).cell 3 rfl
  have HSz : Hid (y0.heap.size ≤ y4.heap.size) := H4.out.size
  go_wp2_with (at_builtin; refine wpl_append_app rfl _ _ 22 9 rfl y0.heap.size 5 i0 (.int .u8 0) 1 1 Tryz.underlying22 ji jz0 jz1 jz2 rfl (by decide) g4 7 cc4 _ rfl HO4.out.1 _ id.size (byteCells id) rfl (Src.ofString _ Tryz.underlying9 id) (by unfold maxLen; omega) (by omega) HSz.out (7 + id.size) rfl (by omega) ((headR E Q K id).map (Value.int .u8)) (by rw [byteCells_txI, ← List.map_append]; rfl) ?_; intro g5 cc5 y5 hown hg; refine Hid.out ?_)
  refine hidden ?_
  have HO5 : Hid (Owns y5 y0.heap.size (some ⟨g5, 0, none⟩) (7 + id.size) cc5 (headR E Q K id)) := ⟨hown, headR_range _ _ _ _⟩
  have H5 : Hid (Below y0.heap.size y0 y5) := H4.out.grown hg H4.out.size (fun q e => by injection e with e; have := (HO4.out.lt g4 rfl).1; omega)
  clear hown hg H4 HO4 c3 HSz
  have c4 := (HQ0.out _ H5.out).cell 4 rfl
  go_wp2_with fail
  refine (implPutL (some ⟨g5, 0, none⟩) (7 + id.size) cc5 M 4 (11 + id.size) 4 rfl (headR E Q K id) (headR E Q K id ++ pbl M 4 4) _ HO5.out.seg (by omega) (by omega) (by omega) (by omega) (by omega) rfl).mono ?_
  rintro r y6 ⟨⟨g6, cc6, rfl, own⟩, hb⟩
  have HO6 : Hid (Owns y6 y0.heap.size (some ⟨g6, 0, none⟩) (11 + id.size) cc6 (headR E Q K id ++ pbl M 4 4)) := owns_low own H5.out.size
  have H6 : Hid (Below y0.heap.size y0 y6) := H5.out.trans (hb.mono H5.out.size)
  clear own hb H5 HO5 c4
  have c5 := (HQ0.out _ H6.out).cell 5 rfl
  go_wp2_with fail
  refine (implPutL (some ⟨g6, 0, none⟩) (11 + id.size) cc6 d 1 (12 + id.size) 1 rfl (headR E Q K id ++ pbl M 4 4) (headR E Q K id ++ pbl M 4 4 ++ pbl zs.length 1 1) _ HO6.out.seg (by omega) (by omega) (by omega) (by omega) (by omega) (by rw [hzd])).mono ?_
  rintro r y7 ⟨⟨g7, cc7, rfl, own⟩, hb⟩
  have HO7 : Hid (Owns y7 y0.heap.size (some ⟨g7, 0, none⟩) (12 + id.size) cc7 (headR E Q K id ++ pbl M 4 4 ++ pbl zs.length 1 1)) := owns_low own H6.out.size
  have H7 : Hid (Below y0.heap.size y0 y7) := H6.out.trans (hb.mono H6.out.size)
  clear own hb H6 HO6 c5
  have c5 := (HQ0.out _ H7.out).cell 5 rfl
  have HSz : Hid (y0.heap.size ≤ y7.heap.size) := H7.out.size
  go_wp2_with (at_builtin; refine wpl_append_app rfl _ _ 22 22 rfl y0.heap.size 5 i0 (.int .u8 0) 1 1 Tryz.underlying22 ji jz0 jz1 jz2 rfl (by decide) g7 (12 + id.size) cc7 _ rfl HO7.out.1 _ d (zs.map (Value.int .u8)) rfl (HS0.out _ H7.out).src (by unfold maxLen; omega) (by omega) HSz.out (12 + id.size + d) rfl (by omega) ((recB E Q K id M zs).map (Value.int .u8)) (by rw [← List.map_append]; rfl) ?_; intro g8 cc8 y8 hown hg; refine Hid.out ?_)
  refine hidden ?_
  have HO8 : Hid (Owns y8 y0.heap.size (some ⟨g8, 0, none⟩) (12 + id.size + d) cc8 (recB E Q K id M zs)) := ⟨hown, recB_range _ _ _ _ _ _ (HS0.out _ H7.out).2.1⟩
  have H8 : Hid (Below y0.heap.size y0 y8) := H7.out.grown hg H7.out.size (fun q e => by injection e with e; have := (HO7.out.lt g7 rfl).1; omega)
  clear hown hg H7 HO7 c5 HSz
  generalize hL : recB E Q K id M zs = L at *
  have HL2 : Hid (recB E Q K id M zs = L) := hL
  clear hL
  go_wp2_with fail
  refine (implCrc_any _ _ cc8 L y8 HO8.out.seg (by omega)).mono ?_
  rintro r y9 ⟨rfl, rfl⟩
  have hcr : crcL L ^^^ 4294967295 < 4294967296 := xor_lt32 _ _ (crcL_lt L HO8.out.2) (by omega)
  go_wp2_with fail
  refine (implPutL (some ⟨g8, 0, none⟩) (12 + id.size + d) cc8 (crcL L ^^^ 4294967295) 4 (16 + id.size + d) 4 rfl L (sumB L) _ HO8.out.seg (by omega) (by omega) (by omega) (by omega) (by omega) rfl).mono ?_
  rintro r y10 ⟨⟨g10, cc10, rfl, own10⟩, hb10⟩
  have hcv := conv_txt (c := cc10) own10.seg
  have HB10 : Hid (Below w.heap.size w y10) := HB0.out.trans ((H8.out.trans (hb10.mono H8.out.size)).mono HB0.out.size)
  generalize hZ : sumB L = Z at *
  have HZ : Hid (sumB L = Z) := hZ
  clear own10 hb10 hZ
  go_wp2_with fail
  go_ret
  exact ⟨by rw [HF.out]; rfl, HB10.out⟩

end Go.Proofs.YtjaihnmhojabfaaGreatDoor
