/- What both programs' PutBig answer: the bytes and behind them those of the number, in memory of its own; nothing that was there is written. For lists of at most 2^40 bytes that are not nil. An append onto a row of the call's own of whatever may be appended, a text's bytes too: as an operation. No program in it. -/
import Derived.Test.YtenkpgnkkkgdmasDoorM12
import Derived.Deep.AppendSrc
import Derived.Laws.AppendOwn
import Derived.WalkKit
namespace Go.Proofs.YtenkpgnkkkgdmasDoor
open Go.RowKit
set_option linter.unusedVariables false

set_option maxRecDepth 10000 in
set_option maxHeartbeats 400000 in
theorem specPut_yes (b off len cap n k : Nat) (zs : List Int) (w : World) (hs : Seg w (some ⟨b, off, none⟩) len zs) (hb : b < w.heap.size) (hl : len ≤ 1099511627776) (hn : n ≤ 9223372036854775807) (h1 : 1 ≤ k) (h8 : k ≤ 8) :
    Calls Tryd.prog 47 #[.slice (some ⟨b, off, none⟩) len cap, .int .i64 n, .int .i64 k] w fun e w' => ∃ a' cap', e = .returned (.slice a' (len + k) cap') ∧ Owns w' w.heap.size a' (len + k) cap' (zs ++ pbl n k k) ∧ Below w.heap.size w w' := by
  obtain ⟨i0, hi, hz0, hz1, hz2⟩ := info_parts Tryd.info5
  have HS : Hid (Seg w (some ⟨b, off, none⟩) len zs) := hs
  have hzl : zs.length = len := hs.1
  have hS1 : Hid (Seg (w.alloc (.cells #[] 5)) (some ⟨b, off, none⟩) len zs) := hs.below ((Below.refl _ _).alloc (Nat.le_refl _) _)
  have hO1 : Hid ((w.alloc (.cells #[] 5)).ownsRow w.heap.size 5 1 (.slice (some ⟨w.heap.size, 0, none⟩) 0 0) 0 []) := World.ownsRow_lit w #[] 0 (Nat.le_refl _) (Nat.zero_le _) rfl
  clear hs
  have hk1 : (1 : Int) ≤ (k : Int) := by omega
  have hk8 : (k : Int) ≤ 8 := by omega
  go_enter Tryd.func47, Tryd.ntmps47
  go_wp2_with (at_builtin; refine wpList_append_own _ rfl _ _ 22 rfl w.heap.size 5 i0 (.int .u8 0) 1 1 Tryd.underlying22 hi hz0 hz1 hz2 rfl (by decide) (.slice (some ⟨w.heap.size, 0, none⟩) 0 0) 0 [] rfl hO1.out ⟨b, off, none⟩ len cap (zs.map (Value.int .u8)) rfl (by simp [hzl]) (cells_ints hS1.out) (ints_one zs) (by unfold maxLen; omega) (by omega) (by simp) ?_; intro v1 w1 hown1 hgrow1 _; refine Hid.out ?_)
  refine hidden ?_
  have HO : Hid (w1.ownsRow w.heap.size 5 1 v1 (len + 0) ((zs ++ pbl n k 0).map (Value.int .u8))) := by
    show World.ownsRow _ _ _ _ _ _ _
    simpa [pbl] using hown1
  have HB : Hid (Below w.heap.size w w1) := ((Below.refl _ _).alloc (Nat.le_refl _) _).grown hgrow1 (by simp) (by simp [Value.ownBlock])
  clear hown1 hgrow1 hO1 hS1
  go_wp2_with (go_at_call 28; refine (l1In_yes _ _ _ _ hk1 hk8).mono ?_; rintro e w' ⟨rfl, rfl⟩)
  go_loopw [7, 8] (fun v i wr => ∃ t : Nat, t ≤ k ∧ i = .int .i64 ((k : Int) - 1 - t) ∧ Hid (wr.ownsRow w.heap.size 5 1 v (len + t) ((zs ++ pbl n k t).map (Value.int .u8))) ∧ Hid (Below w.heap.size w wr)) (fun _ i _ => (intOf i + 1).toNat)
  case atStart => exact ⟨0, Nat.zero_le _, by go_num, HO, HB⟩
  case round =>
    clear HO HB
    obtain ⟨t, ht, rfl, HO, HB⟩ := hrel
    by_cases hlt : t < k
    · have hsz := HB.out.size
      have hone := one_new wr (byteOf n (k - 1 - t))
      have HN : Hid (∀ j u, [Value.int .u8 (byteOf n (k - 1 - t))][j]? = some u → (wr.alloc (.cells #[.int .u8 (byteOf n (k - 1 - t))] 5)).cell? ((⟨wr.heap.size, 0, none⟩ : Addr).add j) = some u) := hone
      clear hone
      go_wp2_with (at_builtin; refine wpList_append_own _ rfl _ _ 22 rfl w.heap.size 5 i0 (.int .u8 0) 1 1 Tryd.underlying22 hi hz0 hz1 hz2 rfl (by decide) u7 (len + t) _ rfl (HO.out.alloc _) ⟨wr.heap.size, 0, none⟩ 1 1 [.int .u8 (byteOf n (k - 1 - t))] rfl rfl HN.out (ints_one [byteOf n (k - 1 - t)]) (by unfold maxLen; omega) (by omega) (by simp; omega) ?_; intro v2 w2 hown2 hgrow2 _; refine Hid.out ?_)
      refine hidden ?_
      have HO2 : Hid (w2.ownsRow w.heap.size 5 1 v2 (len + (t + 1)) ((zs ++ pbl n k (t + 1)).map (Value.int .u8))) := by
        show World.ownsRow _ _ _ _ _ _ _
        rw [pbl_succ, ← List.append_assoc, List.map_append]
        exact hown2
      have HB2 : Hid (Below w.heap.size w w2) := (HB.out.alloc (by omega) _).grown hgrow2 (by simp; omega) (fun q hq => (HO.out.lt q hq).1)
      clear hown2 hgrow2 HN HO HB
      go_wp2
      go_roundw
      case rel => exact ⟨t + 1, by omega, by go_num, HO2, HB2⟩
      case measure => simp [intOf]; omega
    · have htk : t = k := by omega
      subst htk
      obtain ⟨a', cap', rfl⟩ := shape_of_owns HO.out
      go_wp2
      go_ret
      refine ⟨a', cap', rfl, ⟨HO.out, ?_⟩, HB.out⟩
      intro x hx
      rcases List.mem_append.1 hx with hx | hx
      · exact HS.out.2.1 x hx
      · exact pbl_range _ _ _ x hx

set_option maxRecDepth 10000 in
set_option maxHeartbeats 400000 in
theorem specPut_neg (b off len cap k : Nat) (n : Int) (zs : List Int) (w : World) (hs : Seg w (some ⟨b, off, none⟩) len zs) (hb : b < w.heap.size) (hl : len ≤ 1099511627776) (hn : n < 0) (h1 : 1 ≤ k) (h8 : k ≤ 8) :
    Calls Tryd.prog 47 #[.slice (some ⟨b, off, none⟩) len cap, .int .i64 n, .int .i64 k] w fun e w' => ∃ a' cap', e = .returned (.slice a' (len + k) cap') ∧ Owns w' w.heap.size a' (len + k) cap' (zs ++ pbl 0 k k) ∧ Below w.heap.size w w' := by
  obtain ⟨i0, hi, hz0, hz1, hz2⟩ := info_parts Tryd.info5
  have HS : Hid (Seg w (some ⟨b, off, none⟩) len zs) := hs
  have hzl : zs.length = len := hs.1
  have hS1 : Hid (Seg (w.alloc (.cells #[] 5)) (some ⟨b, off, none⟩) len zs) := hs.below ((Below.refl _ _).alloc (Nat.le_refl _) _)
  have hO1 : Hid ((w.alloc (.cells #[] 5)).ownsRow w.heap.size 5 1 (.slice (some ⟨w.heap.size, 0, none⟩) 0 0) 0 []) := World.ownsRow_lit w #[] 0 (Nat.le_refl _) (Nat.zero_le _) rfl
  clear hs
  have hk1 : (1 : Int) ≤ (k : Int) := by omega
  have hk8 : (k : Int) ≤ 8 := by omega
  go_enter Tryd.func47, Tryd.ntmps47
  go_wp2_with (at_builtin; refine wpList_append_own _ rfl _ _ 22 rfl w.heap.size 5 i0 (.int .u8 0) 1 1 Tryd.underlying22 hi hz0 hz1 hz2 rfl (by decide) (.slice (some ⟨w.heap.size, 0, none⟩) 0 0) 0 [] rfl hO1.out ⟨b, off, none⟩ len cap (zs.map (Value.int .u8)) rfl (by simp [hzl]) (cells_ints hS1.out) (ints_one zs) (by unfold maxLen; omega) (by omega) (by simp) ?_; intro v1 w1 hown1 hgrow1 _; refine Hid.out ?_)
  refine hidden ?_
  have HO : Hid (w1.ownsRow w.heap.size 5 1 v1 (len + 0) ((zs ++ pbl 0 k 0).map (Value.int .u8))) := by
    show World.ownsRow _ _ _ _ _ _ _
    simpa [pbl] using hown1
  have HB : Hid (Below w.heap.size w w1) := ((Below.refl _ _).alloc (Nat.le_refl _) _).grown hgrow1 (by simp) (by simp [Value.ownBlock])
  clear hown1 hgrow1 hO1 hS1
  go_wp2_with (go_at_call 28; refine (l1In_yes _ _ _ _ hk1 hk8).mono ?_; rintro e w' ⟨rfl, rfl⟩)
  go_loopw [7, 8] (fun v i wr => ∃ t : Nat, t ≤ k ∧ i = .int .i64 ((k : Int) - 1 - t) ∧ Hid (wr.ownsRow w.heap.size 5 1 v (len + t) ((zs ++ pbl 0 k t).map (Value.int .u8))) ∧ Hid (Below w.heap.size w wr)) (fun _ i _ => (intOf i + 1).toNat)
  case atStart => exact ⟨0, Nat.zero_le _, by go_num, HO, HB⟩
  case round =>
    clear HO HB
    obtain ⟨t, ht, rfl, HO, HB⟩ := hrel
    by_cases hlt : t < k
    · have hsz := HB.out.size
      have hone := one_new wr ((0 : Int))
      have HN : Hid (∀ j u, [Value.int .u8 ((0 : Int))][j]? = some u → (wr.alloc (.cells #[.int .u8 ((0 : Int))] 5)).cell? ((⟨wr.heap.size, 0, none⟩ : Addr).add j) = some u) := hone
      clear hone
      go_wp2_with (at_builtin; refine wpList_append_own _ rfl _ _ 22 rfl w.heap.size 5 i0 (.int .u8 0) 1 1 Tryd.underlying22 hi hz0 hz1 hz2 rfl (by decide) u7 (len + t) _ rfl (HO.out.alloc _) ⟨wr.heap.size, 0, none⟩ 1 1 [.int .u8 ((0 : Int))] rfl rfl HN.out (ints_one [(0 : Int)]) (by unfold maxLen; omega) (by omega) (by simp; omega) ?_; intro v2 w2 hown2 hgrow2 _; refine Hid.out ?_)
      refine hidden ?_
      have HO2 : Hid (w2.ownsRow w.heap.size 5 1 v2 (len + (t + 1)) ((zs ++ pbl 0 k (t + 1)).map (Value.int .u8))) := by
        show World.ownsRow _ _ _ _ _ _ _
        rw [pbl_succ, byteOf_zero, ← List.append_assoc, List.map_append]
        exact hown2
      have HB2 : Hid (Below w.heap.size w w2) := (HB.out.alloc (by omega) _).grown hgrow2 (by simp; omega) (fun q hq => (HO.out.lt q hq).1)
      clear hown2 hgrow2 HN HO HB
      go_wp2
      go_roundw
      case rel => exact ⟨t + 1, by omega, by go_num, HO2, HB2⟩
      case measure => simp [intOf]; omega
    · have htk : t = k := by omega
      subst htk
      obtain ⟨a', cap', rfl⟩ := shape_of_owns HO.out
      go_wp2
      go_ret
      refine ⟨a', cap', rfl, ⟨HO.out, ?_⟩, HB.out⟩
      intro x hx
      rcases List.mem_append.1 hx with hx | hx
      · exact HS.out.2.1 x hx
      · exact pbl_range _ _ _ x hx

set_option maxRecDepth 10000 in
set_option maxHeartbeats 400000 in
theorem specPut_no (b off len cap : Nat) (n k : Int) (zs : List Int) (w : World) (hs : Seg w (some ⟨b, off, none⟩) len zs) (hb : b < w.heap.size) (hl : len ≤ 1099511627776) (hk : k < 1 ∨ 8 < k) :
    Calls Tryd.prog 47 #[.slice (some ⟨b, off, none⟩) len cap, .int .i64 n, .int .i64 k] w fun e w' => ∃ a' cap', e = .returned (.slice a' len cap') ∧ Owns w' w.heap.size a' len cap' (zs) ∧ Below w.heap.size w w' := by
  obtain ⟨i0, hi, hz0, hz1, hz2⟩ := info_parts Tryd.info5
  have HS : Hid (Seg w (some ⟨b, off, none⟩) len zs) := hs
  have hzl : zs.length = len := hs.1
  have hS1 : Hid (Seg (w.alloc (.cells #[] 5)) (some ⟨b, off, none⟩) len zs) := hs.below ((Below.refl _ _).alloc (Nat.le_refl _) _)
  have hO1 : Hid ((w.alloc (.cells #[] 5)).ownsRow w.heap.size 5 1 (.slice (some ⟨w.heap.size, 0, none⟩) 0 0) 0 []) := World.ownsRow_lit w #[] 0 (Nat.le_refl _) (Nat.zero_le _) rfl
  clear hs
  have HK : Hid (k < 1 ∨ 8 < k) := hk
  clear hk
  go_enter Tryd.func47, Tryd.ntmps47
  go_wp2_with (at_builtin; refine wpList_append_own _ rfl _ _ 22 rfl w.heap.size 5 i0 (.int .u8 0) 1 1 Tryd.underlying22 hi hz0 hz1 hz2 rfl (by decide) (.slice (some ⟨w.heap.size, 0, none⟩) 0 0) 0 [] rfl hO1.out ⟨b, off, none⟩ len cap (zs.map (Value.int .u8)) rfl (by simp [hzl]) (cells_ints hS1.out) (ints_one zs) (by unfold maxLen; omega) (by omega) (by simp) ?_; intro v1 w1 hown1 hgrow1 _; refine Hid.out ?_)
  refine hidden ?_
  have HO : Hid (w1.ownsRow w.heap.size 5 1 v1 len (zs.map (Value.int .u8))) := by
    show World.ownsRow _ _ _ _ _ _ _
    simpa using hown1
  have HB : Hid (Below w.heap.size w w1) := ((Below.refl _ _).alloc (Nat.le_refl _) _).grown hgrow1 (by simp) (by simp [Value.ownBlock])
  clear hown1 hgrow1 hO1 hS1
  obtain ⟨a', cap', rfl⟩ := shape_of_owns HO.out
  by_cases hn0 : n < 0
  all_goals
    go_wp2_with (go_at_call 28; refine (l1In_no _ _ _ _ HK.out).mono ?_; rintro e w' ⟨rfl, rfl⟩)
    go_ret
    exact ⟨a', cap', rfl, ⟨HO.out, HS.out.2.1⟩, HB.out⟩

theorem specPut_any (b off len cap : Nat) (n k : Int) (zs : List Int) (w : World) (hs : Seg w (some ⟨b, off, none⟩) len zs) (hb : b < w.heap.size) (hl : len ≤ 1099511627776) (hn : n ≤ 9223372036854775807) :
    Calls Tryd.prog 47 #[.slice (some ⟨b, off, none⟩) len cap, .int .i64 n, .int .i64 k] w fun e w' => ∃ a' cap', e = .returned (.slice a' (pb zs n k).length cap') ∧ Owns w' w.heap.size a' (pb zs n k).length cap' (pb zs n k) ∧ Below w.heap.size w w' := by
  have hz := hs.1
  by_cases hk : 1 ≤ k ∧ k ≤ 8
  · obtain ⟨K, rfl⟩ := Int.eq_ofNat_of_zero_le (show 0 ≤ k by omega)
    have e : pb zs n K = zs ++ pbl n.toNat K K := by rw [pb, if_pos hk, Int.toNat_natCast]
    have el : (zs ++ pbl n.toNat K K).length = len + K := by rw [List.length_append, pbl_len, hz]
    rw [e, el]
    by_cases h0 : n < 0
    · rw [show n.toNat = 0 by omega]
      exact specPut_neg b off len cap K n zs w hs hb hl h0 (by omega) (by omega)
    · obtain ⟨M, rfl⟩ := Int.eq_ofNat_of_zero_le (show 0 ≤ n by omega)
      rw [Int.toNat_natCast]
      exact specPut_yes b off len cap M K zs w hs hb hl (by omega) (by omega) (by omega)
  · have e : pb zs n k = zs := by rw [pb, if_neg hk, List.append_nil]
    rw [e, hz]
    exact specPut_no b off len cap n k zs w hs hb hl (by omega)

end Go.Proofs.YtenkpgnkkkgdmasDoor

namespace Go.Proofs.YtenkpgnkkkgdmasDoor
open Go.RowKit
set_option linter.unusedVariables false

theorem run_room_any {P : Program} (w : World) (t tx ty e : TypeId) (i : TypeInfo) (ht : P.underlying t = some (.slice e)) (hi : P.info? e = some i)
    (g sLen sCap : Nat) (cur : Array Value) (hg : w.heap[g]? = some (.cells cur e (0, 0))) (x : Value) (m : Nat) (news : List Value) (hs : Src P i.size tx x m news w)
    (hroom : sLen + m ≤ sCap) (hfit : sLen * i.size + news.length ≤ cur.size) :
    (Builtin.append_ #[t, tx] ty #[.slice (some ⟨g, 0, none⟩) sLen sCap, x]).run P w =
      .ok (.slice (some ⟨g, 0, none⟩) (sLen + m) sCap) (w.setRow g (cur.toList.take (sLen * i.size) ++ news ++ cur.toList.drop (sLen * i.size + news.length)).toArray) := by
  have hst := run_storeCells_at P g (sLen * i.size) e news 0 cur w hg (by simpa using hfit) hs.one
  simp only [Nat.add_zero] at hst
  rcases hs.kind with ⟨e', hk⟩ | hk <;> simp [Builtin.append_, run_underlying ht, run_underlying hk, sizeOf, typeInfo, hi, hs.len, hroom, hs.cells, Addr.add_lit, hst]

theorem run_append_any {P : Program} (w : World) (base : Nat) (t tx ty e : TypeId) (i : TypeInfo) (z : Value) (size bytes : Nat) (ht : P.underlying t = some (.slice e)) (hi : P.info? e = some i) (hz : i.zero = some z)
    (hsize : i.size = size) (hby : i.bytes = bytes) (hzs : z.cells.size = size) (hsz : 0 < size)
    (g n cap : Nat) (xs : List Value) (hown : w.ownsRow base e size (.slice (some ⟨g, 0, none⟩) n cap) n xs)
    (x : Value) (m : Nat) (news : List Value) (hs : Src P size tx x m news w)
    (h63 : n + m ≤ maxLen) (hbytes : (n + m) * bytes ≤ 140737488355328) (hbase : base ≤ w.heap.size) :
    ∃ v' w', (Builtin.append_ #[t, tx] ty #[.slice (some ⟨g, 0, none⟩) n cap, x]).run P w = .ok v' w' ∧ w'.ownsRow base e size v' (n + m) (xs ++ news) ∧ w.grownBy w' (some g) := by
  subst hsize
  subst hby
  have hsmall : n + m ≤ 9223372036854775807 := by simp only [maxLen] at h63; omega
  have hl := hs.newsLen
  have hlen : (xs ++ news).length = (n + m) * i.size := by rw [List.length_append, hown.1, hl, Nat.add_mul]
  rcases hown.2 with ⟨h, _⟩ | ⟨g', cap', cur, heq, hbg, hg, hnc, hcm, hcs, htake⟩
  · cases h
  · injection heq with e1 e2 e3
    injection e1 with e1
    injection e1 with e1
    subst e1
    subst e3
    by_cases hroom : n + m ≤ cap
    · have hfit : n * i.size + news.length ≤ cur.size := by rw [hl, hcs, ← Nat.add_mul]; exact Nat.mul_le_mul_right _ hroom
      have hr := run_room_any w t tx ty e i ht hi g n cap cur hg x m news hs hroom hfit
      refine ⟨_, _, hr, ⟨hlen, .inr ⟨g, cap, _, rfl, hbg, setRow_heap w g cur _ e _ hg, hroom, hcm, ?_, ?_⟩⟩, ⟨rfl, rfl, rfl, by simp, fun k _ hk => setRow_other w g k _ (fun e => hk (by simp [e]))⟩⟩
      · simp only [List.size_toArray, List.length_append, List.length_take, List.length_drop, Array.length_toList]
        omega
      · rw [htake, ← hlen]
        exact List.take_left
    · have holds : ∀ j u, xs[j]? = some u → w.cell? ((⟨g, 0, none⟩ : Addr).add j) = some u := hown.cells (g := g) rfl
      have hold := run_firstCells_some (P := P) w.drew i.size n ⟨g, 0, none⟩ n cap xs hown.1 (by simpa using holds)
      have hr := run_append_grow_src (P := P) w t tx ty e i z ht hi hz (some ⟨g, 0, none⟩) n cap xs hold x m news hs (by omega) (by omega) (growslice_fits (by omega) hbytes)
      have hge := grownCap_ge w (n + m) cap e
      have hcm' : grownCap w (n + m) cap e ≤ maxLen := grownCap_le_maxLen w (n + m) cap e h63
      refine ⟨_, _, hr, ⟨hlen, .inr ⟨w.heap.size, _, _, rfl, hbase, heap_alloc_new w.drew _, hge, hcm', ?_, ?_⟩⟩, ⟨rfl, rfl, rfl, by simp, fun k hk _ => heap_alloc_old w.drew _ hk⟩⟩
      · simp only [Array.size_append, List.size_toArray, size_zeroCells, hzs, hlen, ← Nat.add_mul]
        congr 1
        omega
      · simp only [Array.toList_append]
        rw [← hlen]
        exact List.take_left

theorem wpList_append_any {P : Program} {w : World} {ops : Array Oper} {rest : List Oper} {o : Oper} {a : Act} {Q : Exit → Act → World → Prop} (hgd : o.guard = none) (s x : Operand) (t tx : TypeId)
    (ho : o.op = .call { callee := .builtin .append, args := #[s, x], argTypes := #[t, tx] })
    (base : Nat) (e : TypeId) (i : TypeInfo) (z : Value) (size bytes : Nat) (ht : P.underlying t = some (.slice e)) (hi : P.info? e = some i) (hz : i.zero = some z)
    (hsize : i.size = size) (hby : i.bytes = bytes) (hzs : z.cells.size = size) (hsz : 0 < size)
    (g n cap : Nat) (xs : List Value) (hs : a.eval s = .slice (some ⟨g, 0, none⟩) n cap) (hown : w.ownsRow base e size (.slice (some ⟨g, 0, none⟩) n cap) n xs)
    (u : Value) (m : Nat) (news : List Value) (hx : a.eval x = u) (hsrc : Src P size tx u m news w)
    (h63 : n + m ≤ maxLen) (hbytes : (n + m) * bytes ≤ 140737488355328) (hbase : base ≤ w.heap.size)
    (h : ∀ v' w', w'.ownsRow base e size v' (n + m) (xs ++ news) → w.grownBy w' (some g) → wpList P ops Q rest (a.put o.dst v') w') : wpList P ops Q (o :: rest) a w := by
  refine wpList_plain hgd fun K hK => ?_
  obtain ⟨v', w', hr, h2, h3⟩ := run_append_any (P := P) w base t tx o.type e i z size bytes ht hi hz hsize hby hzs hsz g n cap xs hown u m news hsrc h63 hbytes hbase
  unfold Oper.wp execOp
  simp only [ho, resolve, invoke, builtin, Sem.run_bind, Sem.run_pure, Result.andThen_ok, List.map_toArray, List.map_cons, List.map_nil, hs, hx, hr]
  exact hK _ _ (h v' w' h2 h3)

end Go.Proofs.YtenkpgnkkkgdmasDoor
