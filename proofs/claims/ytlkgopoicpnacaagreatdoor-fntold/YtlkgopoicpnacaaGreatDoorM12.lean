/- What the specification's DiskOk answers. What both programs' PutBig answer: the bytes and behind them those of the number, in memory of its own; nothing that was there is written. For lists of at most 2^40 bytes that are not nil. The specification's PutBig onto bytes that are there, and where its row lies. What the specification's Crc answers: the sum of the bytes; nothing is written. For lists of at most 2^40 bytes. What the specification's l13Put answers. What the specification's l11Id answers. -/
import Derived.Test.YtlkgopoicpnacaaGreatDoorM05
import Derived.Test.YtlkgopoicpnacaaGreatDoorM05
import Derived.Test.YtlkgopoicpnacaaGreatDoorM03
import Derived.Test.YtlkgopoicpnacaaGreatDoorM07
import Derived.Test.YtlkgopoicpnacaaGreatDoorM01
import Derived.Test.YtlkgopoicpnacaaGreatDoorM04
import Derived.Deep.CutBlock
import Derived.Deep.RegionHeld3
import Derived.Deep.QuietTactic
namespace Go.Proofs.YtlkgopoicpnacaaGreatDoor
open Go.RowKit
set_option linter.unusedVariables false

set_option maxRecDepth 10000 in
set_option maxHeartbeats 1600000 in
theorem specDok_any (a : Option Addr) (n ca : Nat) (xs : List ByteArray) (a' : Option Addr) (n' ca' : Nat) (ys : List ByteArray) (w : World) (h1 : Strs w a n xs) (h3 : Strs w a' n' ys) (hn : n ≤ 1099511627776) (hn' : n' ≤ 1099511627776) :
    Calls Tryz.prog 74 #[.agg #[.slice a n ca, .slice a' n' ca']] w fun e w' => e = .returned (.bool (okD xs ys)) ∧ Below w.heap.size w w' := by
  have HX : Hid (∀ W, Below w.heap.size w W → Strs W a n xs ∧ Strs W a' n' ys) := fun W h => ⟨h1.below h, h3.below h⟩
  have HL : Hid (xs.length = n ∧ ys.length = n') := ⟨h1.1, h3.1⟩
  have HM : Hid ((∀ x ∈ xs, x.size ≤ maxLen) ∧ (∀ x ∈ ys, x.size ≤ maxLen)) := ⟨h1.2.1, h3.2.1⟩
  clear h1 h3
  have HA : Hid (Box2R (w.alloc (Obj.cells #[Value.slice a n ca, Value.slice a' n' ca'] 26)) w.heap.size 26 (.slice a n ca) (.slice a' n' ca')) := Box2R.new _ _ _ _
  have HB : Hid (Below w.heap.size w (w.alloc (Obj.cells #[Value.slice a n ca, Value.slice a' n' ca'] 26))) := (Below.refl _ _).alloc (Nat.le_refl _) _
  by_cases hne : n = n'
  case neg =>
    have HF : Hid (okD xs ys = false) := okD_len (fun h => hne (by rw [← HL.out.1, ← HL.out.2]; exact h.1))
    have e1 : ((n : Int) != (n' : Int)) = true := by simp; omega
    go_enter Tryz.func74, Tryz.ntmps74
    go_wp2_with fail
    go_ret
    exact ⟨by rw [HF.out]; rfl, HB.out⟩
  subst hne
  have e1 : ((n : Int) != (n : Int)) = false := by simp
  by_cases hbig : 200 < n
  · have HF : Hid (okD xs ys = false) := okD_len (fun h => by have := HL.out; omega)
    go_enter Tryz.func74, Tryz.ntmps74
    go_wp2_with fail
    go_ret
    exact ⟨by rw [HF.out]; rfl, HB.out⟩
  go_enter Tryz.func74, Tryz.ntmps74
  go_wp2_with fail
  obtain ⟨w0, hw0⟩ : ∃ w0, w.alloc (Obj.cells #[Value.slice a n ca, Value.slice a' n ca'] 26) = w0 := ⟨_, rfl⟩
  rw [hw0] at HA HB ⊢
  clear hw0
  go_loopw [3] (fun i wr => ∃ k : Nat, k ≤ n ∧ i = .int .i64 (k : Int) ∧ Hid (Below w0.heap.size w0 wr) ∧ Hid (∀ (i : Nat) (x y : ByteArray), i < k → xs[i]? = some x → ys[i]? = some y → x.size ≤ 64 ∧ y.size ≤ 64)) (fun i _ => n - (intOf i).toNat)
  case atStart => exact ⟨0, Nat.zero_le _, rfl, Below.refl _ _, fun i x y h => by omega⟩
  case round =>
    obtain ⟨k, hk, rfl, HW, HG⟩ := hrel
    obtain ⟨c0, c1⟩ := (HA.out.stays HW.out).cells
    by_cases hlt : k < n
    · have hb := HB.out.trans (HW.out.mono HB.out.size)
      obtain ⟨p, po, x, rfl, _, hkx, hp⟩ := (HX.out _ hb).1.at hlt
      obtain ⟨q, qo, y, rfl, _, hky, hq⟩ := (HX.out _ hb).2.at hlt
      have HK : Hid (xs[k]? = some x ∧ ys[k]? = some y) := ⟨hkx, hky⟩
      have hxm : x.size ≤ maxLen := HM.out.1 x (List.mem_of_getElem? hkx)
      have hym : y.size ≤ maxLen := HM.out.2 y (List.mem_of_getElem? hky)
      have hmm : maxLen < 9223372036854775808 := by decide
      clear hkx hky hb
      have hki : (k : Int) < (n : Int) := by omega
      have hk0 : (0 : Int) ≤ (k : Int) := by omega
      by_cases hx : 64 < x.size
      · have HF : Hid (okD xs ys = false) := okD_bad HK.out.1 HK.out.2 (.inl hx)
        go_wp2_with fail
        go_ret
        exact ⟨by rw [HF.out]; rfl, HB.out.trans (HW.out.mono HB.out.size)⟩
      by_cases hy : 64 < y.size
      · have HF : Hid (okD xs ys = false) := okD_bad HK.out.1 HK.out.2 (.inr hy)
        go_wp2_with fail
        go_ret
        exact ⟨by rw [HF.out]; rfl, HB.out.trans (HW.out.mono HB.out.size)⟩
      have HG2 : Hid (∀ (i : Nat) (x y : ByteArray), i < k + 1 → xs[i]? = some x → ys[i]? = some y → x.size ≤ 64 ∧ y.size ≤ 64) := by
        intro i x' y' hi h1 h2
        by_cases hik : i = k
        · subst hik
          rw [HK.out.1] at h1
          rw [HK.out.2] at h2
          injection h1 with h1
          injection h2 with h2
          subst h1 h2
          exact ⟨by omega, by omega⟩
        · exact HG.out i x' y' (by omega) h1 h2
      clear HG
      go_wp2_with fail
      go_roundw
      case rel => exact ⟨k + 1, by omega, by go_num, HW, HG2⟩
      case measure => simp [intOf]; omega
    · have HF : Hid (okD xs ys = true) := okD_good (by have := HL.out; omega) (by have := HL.out; omega) (fun i x y h1 h2 => HG.out i x y (by have := HL.out; have := (List.getElem?_eq_some_iff.1 h1).1; omega) h1 h2)
      clear HG
      go_wp2_with fail
      go_ret
      exact ⟨by rw [HF.out]; rfl, HB.out.trans (HW.out.mono HB.out.size)⟩

end Go.Proofs.YtlkgopoicpnacaaGreatDoor

namespace Go.Proofs.YtlkgopoicpnacaaGreatDoor
open Go.RowKit
set_option linter.unusedVariables false

set_option maxRecDepth 10000 in
set_option maxHeartbeats 400000 in
theorem specPut_yes (b off len cap n k : Nat) (zs : List Int) (w : World) (hs : Seg w (some ⟨b, off, none⟩) len zs) (hb : b < w.heap.size) (hl : len ≤ 1099511627776) (hn : n ≤ 9223372036854775807) (h1 : 1 ≤ k) (h8 : k ≤ 8) :
    Calls Tryz.prog 126 #[.slice (some ⟨b, off, none⟩) len cap, .int .i64 n, .int .i64 k] w fun e w' => ∃ a' cap', e = .returned (.slice a' (len + k) cap') ∧ Owns w' w.heap.size a' (len + k) cap' (zs ++ pbl n k k) ∧ Below w.heap.size w w' := by
  obtain ⟨i0, hi, hz0, hz1, hz2⟩ := info_parts Tryz.info5
  have HS : Hid (Seg w (some ⟨b, off, none⟩) len zs) := hs
  have hzl : zs.length = len := hs.1
  have hS1 : Hid (Seg (w.alloc (.cells #[] 5)) (some ⟨b, off, none⟩) len zs) := hs.below ((Below.refl _ _).alloc (Nat.le_refl _) _)
  have hO1 : Hid ((w.alloc (.cells #[] 5)).ownsRow w.heap.size 5 1 (.slice (some ⟨w.heap.size, 0, none⟩) 0 0) 0 []) := World.ownsRow_lit w #[] 0 (Nat.le_refl _) (Nat.zero_le _) rfl
  clear hs
  have hk1 : (1 : Int) ≤ (k : Int) := by omega
  have hk8 : (k : Int) ≤ 8 := by omega
  go_enter Tryz.func126, Tryz.ntmps126
  go_wp2_with (at_builtin; refine wpList_append_own _ rfl _ _ 22 rfl w.heap.size 5 i0 (.int .u8 0) 1 1 Tryz.underlying22 hi hz0 hz1 hz2 rfl (by decide) (.slice (some ⟨w.heap.size, 0, none⟩) 0 0) 0 [] rfl hO1.out ⟨b, off, none⟩ len cap (zs.map (Value.int .u8)) rfl (by simp [hzl]) (cells_ints hS1.out) (ints_one zs) (by unfold maxLen; omega) (by omega) (by simp) ?_; intro v1 w1 hown1 hgrow1 _; refine Hid.out ?_)
  refine hidden ?_
  have HO : Hid (w1.ownsRow w.heap.size 5 1 v1 (len + 0) ((zs ++ pbl n k 0).map (Value.int .u8))) := by
    show World.ownsRow _ _ _ _ _ _ _
    simpa [pbl] using hown1
  have HB : Hid (Below w.heap.size w w1) := ((Below.refl _ _).alloc (Nat.le_refl _) _).grown hgrow1 (by simp) (by simp [Value.ownBlock])
  clear hown1 hgrow1 hO1 hS1
  go_wp2_with (go_at_call 81; refine (l1In_yes _ _ _ _ hk1 hk8).mono ?_; rintro e w' ⟨rfl, rfl⟩)
  go_loopw [7, 8] (fun v i wr => ∃ t : Nat, t ≤ k ∧ i = .int .i64 ((k : Int) - 1 - t) ∧ Hid (wr.ownsRow w.heap.size 5 1 v (len + t) ((zs ++ pbl n k t).map (Value.int .u8))) ∧ Hid (Below w.heap.size w wr)) (fun _ i _ => (intOf i + 1).toNat)
  case atStart => exact ⟨0, Nat.zero_le _, by go_num, HO, HB⟩
  case round =>
    clear HO HB
    obtain ⟨t, ht, rfl, HO, HB⟩ := hrel
    by_cases hlt : t < k
    · have hsz := HB.out.size
      have hone := one_new wr (byteOf n (k - 1 - t))
      have HN : Hid (∀ j u, [Value.int .u8 (byteOf n (k - 1 - t))][j]? = some u → (wr.alloc (.cells #[.int .u8 (byteOf n (k - 1 - t))] 5)).cell? ((⟨wr.heap.size, 0, none⟩ : Addr).add j) = some u) := hone
      clear hone
      go_wp2_with (at_builtin; refine wpList_append_own _ rfl _ _ 22 rfl w.heap.size 5 i0 (.int .u8 0) 1 1 Tryz.underlying22 hi hz0 hz1 hz2 rfl (by decide) u7 (len + t) _ rfl (HO.out.alloc _) ⟨wr.heap.size, 0, none⟩ 1 1 [.int .u8 (byteOf n (k - 1 - t))] rfl rfl HN.out (ints_one [byteOf n (k - 1 - t)]) (by unfold maxLen; omega) (by omega) (by simp; omega) ?_; intro v2 w2 hown2 hgrow2 _; refine Hid.out ?_)
      refine hidden ?_
      have HO2 : Hid (w2.ownsRow w.heap.size 5 1 v2 (len + (t + 1)) ((zs ++ pbl n k (t + 1)).map (Value.int .u8))) := by
        show World.ownsRow _ _ _ _ _ _ _
        rw [pbl_succ, ← List.append_assoc, List.map_append]
        exact hown2
      have HB2 : Hid (Below w.heap.size w w2) := (HB.out.alloc (by omega) _).grown hgrow2 (by simp; omega) (fun q hq => (HO.out.lt q hq).1)
      clear hown2 hgrow2 HN HO HB
      go_wp2
      go_roundw
      case rel => exact ⟨t + 1, by omega, by go_num, HO2, HB2⟩
      case measure => simp [intOf]; omega
    · have htk : t = k := by omega
      subst htk
      obtain ⟨a', cap', rfl⟩ := shape_of_owns HO.out
      go_wp2
      go_ret
      refine ⟨a', cap', rfl, ⟨HO.out, ?_⟩, HB.out⟩
      intro x hx
      rcases List.mem_append.1 hx with hx | hx
      · exact HS.out.2.1 x hx
      · exact pbl_range _ _ _ x hx

set_option maxRecDepth 10000 in
set_option maxHeartbeats 400000 in
theorem specPut_neg (b off len cap k : Nat) (n : Int) (zs : List Int) (w : World) (hs : Seg w (some ⟨b, off, none⟩) len zs) (hb : b < w.heap.size) (hl : len ≤ 1099511627776) (hn : n < 0) (h1 : 1 ≤ k) (h8 : k ≤ 8) :
    Calls Tryz.prog 126 #[.slice (some ⟨b, off, none⟩) len cap, .int .i64 n, .int .i64 k] w fun e w' => ∃ a' cap', e = .returned (.slice a' (len + k) cap') ∧ Owns w' w.heap.size a' (len + k) cap' (zs ++ pbl 0 k k) ∧ Below w.heap.size w w' := by
  obtain ⟨i0, hi, hz0, hz1, hz2⟩ := info_parts Tryz.info5
  have HS : Hid (Seg w (some ⟨b, off, none⟩) len zs) := hs
  have hzl : zs.length = len := hs.1
  have hS1 : Hid (Seg (w.alloc (.cells #[] 5)) (some ⟨b, off, none⟩) len zs) := hs.below ((Below.refl _ _).alloc (Nat.le_refl _) _)
  have hO1 : Hid ((w.alloc (.cells #[] 5)).ownsRow w.heap.size 5 1 (.slice (some ⟨w.heap.size, 0, none⟩) 0 0) 0 []) := World.ownsRow_lit w #[] 0 (Nat.le_refl _) (Nat.zero_le _) rfl
  clear hs
  have hk1 : (1 : Int) ≤ (k : Int) := by omega
  have hk8 : (k : Int) ≤ 8 := by omega
  go_enter Tryz.func126, Tryz.ntmps126
  go_wp2_with (at_builtin; refine wpList_append_own _ rfl _ _ 22 rfl w.heap.size 5 i0 (.int .u8 0) 1 1 Tryz.underlying22 hi hz0 hz1 hz2 rfl (by decide) (.slice (some ⟨w.heap.size, 0, none⟩) 0 0) 0 [] rfl hO1.out ⟨b, off, none⟩ len cap (zs.map (Value.int .u8)) rfl (by simp [hzl]) (cells_ints hS1.out) (ints_one zs) (by unfold maxLen; omega) (by omega) (by simp) ?_; intro v1 w1 hown1 hgrow1 _; refine Hid.out ?_)
  refine hidden ?_
  have HO : Hid (w1.ownsRow w.heap.size 5 1 v1 (len + 0) ((zs ++ pbl 0 k 0).map (Value.int .u8))) := by
    show World.ownsRow _ _ _ _ _ _ _
    simpa [pbl] using hown1
  have HB : Hid (Below w.heap.size w w1) := ((Below.refl _ _).alloc (Nat.le_refl _) _).grown hgrow1 (by simp) (by simp [Value.ownBlock])
  clear hown1 hgrow1 hO1 hS1
  go_wp2_with (go_at_call 81; refine (l1In_yes _ _ _ _ hk1 hk8).mono ?_; rintro e w' ⟨rfl, rfl⟩)
  go_loopw [7, 8] (fun v i wr => ∃ t : Nat, t ≤ k ∧ i = .int .i64 ((k : Int) - 1 - t) ∧ Hid (wr.ownsRow w.heap.size 5 1 v (len + t) ((zs ++ pbl 0 k t).map (Value.int .u8))) ∧ Hid (Below w.heap.size w wr)) (fun _ i _ => (intOf i + 1).toNat)
  case atStart => exact ⟨0, Nat.zero_le _, by go_num, HO, HB⟩
  case round =>
    clear HO HB
    obtain ⟨t, ht, rfl, HO, HB⟩ := hrel
    by_cases hlt : t < k
    · have hsz := HB.out.size
      have hone := one_new wr ((0 : Int))
      have HN : Hid (∀ j u, [Value.int .u8 ((0 : Int))][j]? = some u → (wr.alloc (.cells #[.int .u8 ((0 : Int))] 5)).cell? ((⟨wr.heap.size, 0, none⟩ : Addr).add j) = some u) := hone
      clear hone
      go_wp2_with (at_builtin; refine wpList_append_own _ rfl _ _ 22 rfl w.heap.size 5 i0 (.int .u8 0) 1 1 Tryz.underlying22 hi hz0 hz1 hz2 rfl (by decide) u7 (len + t) _ rfl (HO.out.alloc _) ⟨wr.heap.size, 0, none⟩ 1 1 [.int .u8 ((0 : Int))] rfl rfl HN.out (ints_one [(0 : Int)]) (by unfold maxLen; omega) (by omega) (by simp; omega) ?_; intro v2 w2 hown2 hgrow2 _; refine Hid.out ?_)
      refine hidden ?_
      have HO2 : Hid (w2.ownsRow w.heap.size 5 1 v2 (len + (t + 1)) ((zs ++ pbl 0 k (t + 1)).map (Value.int .u8))) := by
        show World.ownsRow _ _ _ _ _ _ _
        rw [pbl_succ, byteOf_zero, ← List.append_assoc, List.map_append]
        exact hown2
      have HB2 : Hid (Below w.heap.size w w2) := (HB.out.alloc (by omega) _).grown hgrow2 (by simp; omega) (fun q hq => (HO.out.lt q hq).1)
      clear hown2 hgrow2 HN HO HB
      go_wp2
      go_roundw
      case rel => exact ⟨t + 1, by omega, by go_num, HO2, HB2⟩
      case measure => simp [intOf]; omega
    · have htk : t = k := by omega
      subst htk
      obtain ⟨a', cap', rfl⟩ := shape_of_owns HO.out
      go_wp2
      go_ret
      refine ⟨a', cap', rfl, ⟨HO.out, ?_⟩, HB.out⟩
      intro x hx
      rcases List.mem_append.1 hx with hx | hx
      · exact HS.out.2.1 x hx
      · exact pbl_range _ _ _ x hx

set_option maxRecDepth 10000 in
set_option maxHeartbeats 400000 in
theorem specPut_no (b off len cap : Nat) (n k : Int) (zs : List Int) (w : World) (hs : Seg w (some ⟨b, off, none⟩) len zs) (hb : b < w.heap.size) (hl : len ≤ 1099511627776) (hk : k < 1 ∨ 8 < k) :
    Calls Tryz.prog 126 #[.slice (some ⟨b, off, none⟩) len cap, .int .i64 n, .int .i64 k] w fun e w' => ∃ a' cap', e = .returned (.slice a' len cap') ∧ Owns w' w.heap.size a' len cap' (zs) ∧ Below w.heap.size w w' := by
  obtain ⟨i0, hi, hz0, hz1, hz2⟩ := info_parts Tryz.info5
  have HS : Hid (Seg w (some ⟨b, off, none⟩) len zs) := hs
  have hzl : zs.length = len := hs.1
  have hS1 : Hid (Seg (w.alloc (.cells #[] 5)) (some ⟨b, off, none⟩) len zs) := hs.below ((Below.refl _ _).alloc (Nat.le_refl _) _)
  have hO1 : Hid ((w.alloc (.cells #[] 5)).ownsRow w.heap.size 5 1 (.slice (some ⟨w.heap.size, 0, none⟩) 0 0) 0 []) := World.ownsRow_lit w #[] 0 (Nat.le_refl _) (Nat.zero_le _) rfl
  clear hs
  have HK : Hid (k < 1 ∨ 8 < k) := hk
  clear hk
  go_enter Tryz.func126, Tryz.ntmps126
  go_wp2_with (at_builtin; refine wpList_append_own _ rfl _ _ 22 rfl w.heap.size 5 i0 (.int .u8 0) 1 1 Tryz.underlying22 hi hz0 hz1 hz2 rfl (by decide) (.slice (some ⟨w.heap.size, 0, none⟩) 0 0) 0 [] rfl hO1.out ⟨b, off, none⟩ len cap (zs.map (Value.int .u8)) rfl (by simp [hzl]) (cells_ints hS1.out) (ints_one zs) (by unfold maxLen; omega) (by omega) (by simp) ?_; intro v1 w1 hown1 hgrow1 _; refine Hid.out ?_)
  refine hidden ?_
  have HO : Hid (w1.ownsRow w.heap.size 5 1 v1 len (zs.map (Value.int .u8))) := by
    show World.ownsRow _ _ _ _ _ _ _
    simpa using hown1
  have HB : Hid (Below w.heap.size w w1) := ((Below.refl _ _).alloc (Nat.le_refl _) _).grown hgrow1 (by simp) (by simp [Value.ownBlock])
  clear hown1 hgrow1 hO1 hS1
  obtain ⟨a', cap', rfl⟩ := shape_of_owns HO.out
  by_cases hn0 : n < 0
  all_goals
    go_wp2_with (go_at_call 81; refine (l1In_no _ _ _ _ HK.out).mono ?_; rintro e w' ⟨rfl, rfl⟩)
    go_ret
    exact ⟨a', cap', rfl, ⟨HO.out, HS.out.2.1⟩, HB.out⟩

theorem specPut_any (b off len cap : Nat) (n k : Int) (zs : List Int) (w : World) (hs : Seg w (some ⟨b, off, none⟩) len zs) (hb : b < w.heap.size) (hl : len ≤ 1099511627776) (hn : n ≤ 9223372036854775807) :
    Calls Tryz.prog 126 #[.slice (some ⟨b, off, none⟩) len cap, .int .i64 n, .int .i64 k] w fun e w' => ∃ a' cap', e = .returned (.slice a' (pb zs n k).length cap') ∧ Owns w' w.heap.size a' (pb zs n k).length cap' (pb zs n k) ∧ Below w.heap.size w w' := by
  have hz := hs.1
  by_cases hk : 1 ≤ k ∧ k ≤ 8
  · obtain ⟨K, rfl⟩ := Int.eq_ofNat_of_zero_le (show 0 ≤ k by omega)
    have e : pb zs n K = zs ++ pbl n.toNat K K := by rw [pb, if_pos hk, Int.toNat_natCast]
    have el : (zs ++ pbl n.toNat K K).length = len + K := by rw [List.length_append, pbl_len, hz]
    rw [e, el]
    by_cases h0 : n < 0
    · rw [show n.toNat = 0 by omega]
      exact specPut_neg b off len cap K n zs w hs hb hl h0 (by omega) (by omega)
    · obtain ⟨M, rfl⟩ := Int.eq_ofNat_of_zero_le (show 0 ≤ n by omega)
      rw [Int.toNat_natCast]
      exact specPut_yes b off len cap M K zs w hs hb hl (by omega) (by omega) (by omega)
  · have e : pb zs n k = zs := by rw [pb, if_neg hk, List.append_nil]
    rw [e, hz]
    exact specPut_no b off len cap n k zs w hs hb hl (by omega)

end Go.Proofs.YtlkgopoicpnacaaGreatDoor

namespace Go.Proofs.YtlkgopoicpnacaaGreatDoor
open Go.RowKit
set_option linter.unusedVariables false

theorem specPutL (b len cap n k m : Nat) (K : Int) (hK : K = (k : Int)) (zs ys : List Int) (w : World) (hs : Seg w (some ⟨b, 0, none⟩) len zs) (hb : b < w.heap.size) (hl : len ≤ 1099511627776) (hn : n ≤ 9223372036854775807) (h1 : 1 ≤ k) (h8 : k ≤ 8) (hm : len + k = m) (hys : zs ++ pbl n k k = ys) :
    Calls Tryz.prog 126 #[.slice (some ⟨b, 0, none⟩) len cap, .int .i64 n, .int .i64 K] w fun e w' => (∃ g c, e = .returned (.slice (some ⟨g, 0, none⟩) m c) ∧ Owns w' w.heap.size (some ⟨g, 0, none⟩) m c ys) ∧ Below w.heap.size w w' := by
  subst hK
  refine (specPut_yes b 0 len cap n k zs w hs hb hl hn h1 h8).mono ?_
  rintro e w' ⟨a', c', rfl, ho, hbl⟩
  rw [hm, hys] at ho
  obtain ⟨g, rfl, _, _⟩ := owns_at ho (by omega)
  exact ⟨⟨g, c', by rw [hm], ho⟩, hbl⟩

end Go.Proofs.YtlkgopoicpnacaaGreatDoor

namespace Go.Proofs.YtlkgopoicpnacaaGreatDoor
open Go.RowKit

set_option maxHeartbeats 400000 in
theorem specCrc_any (a : Option Addr) (len cap : Nat) (zs : List Int) (w : World) (hs : Seg w a len zs) (hl : len ≤ 1099511627776) :
    Calls Tryz.prog 57 #[.slice a len cap] w fun e w' => e = .returned (.int .i64 ((crcL zs ^^^ 4294967295 : Nat) : Int)) ∧ w' = w := by
  have HS : Hid (Seg w a len zs) := hs
  clear hs
  go_enter Tryz.func57, Tryz.ntmps57
  go_wp2
  go_loop [3, 4] (fun m i => ∃ j : Nat, j ≤ len ∧ i = .int .i64 j ∧ m = .int .i64 ((crcL (zs.take j) : Nat) : Int)) (fun _ i => len - (intOf i).toNat)
  case atStart => exact ⟨0, Nat.zero_le _, rfl, rfl⟩
  case round =>
    obtain ⟨j, hj, rfl, rfl⟩ := hrel
    have hb := crcL_lt (zs.take j) (fun n hn => HS.out.2.1 n (List.mem_of_mem_take hn))
    by_cases hlt : j < len
    · have hsn : Hid (crcL (zs.take (j + 1)) = crcN 8 (crcL (zs.take j) ^^^ (zs.getD j 0).toNat)) := by
        show crcL _ = _
        rw [take_snoc zs j (by have := HS.out.1; omega), crcL_snoc]
      obtain ⟨b, off, rfl, hb2, hc⟩ : ∃ b off, a = some ⟨b, off, none⟩ ∧ b < w.heap.size ∧ ∀ i, i < len → w.cell? ⟨b, off + i, none⟩ = some (.int .u8 (zs.getD i 0)) := by
        rcases HS.out.2.2 with h | h
        · omega
        · exact h
      have hcell : w.cell? ⟨b, off + j, none⟩ = some (.int .u8 (zs.getD j 0)) := hc j hlt
      clear hc
      obtain ⟨hx0, hx1⟩ := HS.out.range j
      generalize crcL (zs.take j) = m at *
      generalize zs.getD j 0 = x at *
      have hxor := i64_xor_int m x hb hx0 (by omega)
      have hq := xor_lt32 m x.toNat hb (by omega)
      generalize m ^^^ x.toNat = q at *
      go_wp2
      clear hxor hcell
      go_loop [3, 5] (fun v i => ∃ t : Nat, t ≤ 8 ∧ i = .int .i64 t ∧ v = .int .i64 ((crcN t q : Nat) : Int)) (fun _ i => 8 - (intOf i).toNat)
      case atStart => exact ⟨0, Nat.zero_le _, rfl, rfl⟩
      case round =>
        obtain ⟨t, ht8, rfl, rfl⟩ := hrel
        have hbm := crcN_lt t q hq
        have hst : Hid (crcN (t + 1) q = crc1 (crcN t q)) := rfl
        generalize hm0 : crcN t q = y at *
        have HM : Hid (crcN t q = y) := hm0
        clear hm0
        by_cases hlt8 : t < 8
        · have ht := i64_turn y hbm
          rcases Nat.mod_two_eq_zero_or_one y with h0 | h0
          · have ha : bits .and .i64 (y : Int) 1 = 0 := by rw [i64_and1 y hbm]; omega
            go_wp2
            go_round
            case rel => exact ⟨t + 1, by omega, by go_num, by rw [hst.out, crc1, if_neg (by omega)]; go_num⟩
            case measure => simp [intOf]; omega
          · have ha : bits .and .i64 (y : Int) 1 = 1 := by rw [i64_and1 y hbm]; omega
            go_wp2
            go_round
            case rel => exact ⟨t + 1, by omega, by go_num, by rw [hst.out, crc1, if_pos (by omega)]⟩
            case measure => simp [intOf]; omega
        · have ht9 : t = 8 := by omega
          subst ht9
          go_wp2
          go_round
          case rel => exact ⟨j + 1, by omega, by go_num, by rw [hsn.out, HM.out]⟩
          case measure => simp [intOf]; omega
    · have hjl : j = len := by omega
      subst hjl
      have hz : zs.take j = zs := List.take_of_length_le (by have := HS.out.1; omega)
      rw [hz] at hb ⊢
      clear hz
      have hr := i64_xor_int (crcL zs) 4294967295 hb (by omega) (by omega)
      go_wp2
      go_ret
      exact ⟨rfl, rfl⟩

end Go.Proofs.YtlkgopoicpnacaaGreatDoor

namespace Go.Proofs.YtlkgopoicpnacaaGreatDoor
open Go.RowKit
set_option linter.unusedVariables false

set_option maxRecDepth 10000 in
set_option maxHeartbeats 1600000 in
theorem specPut13_any (e q k : Nat) (id : ByteArray) (n : Nat) (a : Option Addr) (d ca : Nat) (zs : List Int) (w : World) (hs : Seg w a d zs) (hi : id.size ≤ 255) (hd : d ≤ 255) (he : e ≤ 1000000000) (hq : q ≤ 1000000000) (hk : k ≤ 1000000000) (hn : n ≤ 1000000000) :
    Calls Tryz.prog 119 #[.agg #[.int .i64 e, .int .i64 q, .int .i64 k, .string id, .int .i64 n, .slice a d ca]] w fun r w' => r = .returned (.string (txU (sumB (recB e q k id n zs)))) ∧ Below w.heap.size w w' := by
  obtain ⟨w0, hw0⟩ : ∃ w0, w.alloc (.cells #[.int .i64 e, .int .i64 q, .int .i64 k, .string id, .int .i64 n, .slice a d ca] 107) = w0 := ⟨_, rfl⟩
  have HE : Hid (w.alloc (.cells #[.int .i64 e, .int .i64 q, .int .i64 k, .string id, .int .i64 n, .slice a d ca] 107) = w0) := hw0
  have q0 : BoxN w0 w.heap.size 107 [.int .i64 e, .int .i64 q, .int .i64 k, .string id, .int .i64 n, .slice a d ca] := by rw [← hw0]; exact BoxN.new _ _ _
  have HB : Hid (Below w.heap.size w w0) := by show Below _ _ _; rw [← hw0]; exact (Below.refl _ _).alloc (Nat.le_refl _) _
  clear hw0
  go_enter Tryz.func119, Tryz.ntmps119
  go_upto_region 1 with fail
  rw [HE.out]
  clear HE
  have c0 := q0.cell 0 rfl
  have c1 := q0.cell 1 rfl
  have c2 := q0.cell 2 rfl
  have c3 := q0.cell 3 rfl
  have c4 := q0.cell 4 rfl
  have c5 := q0.cell 5 rfl
  have HQ : Hid (∀ W, Below w0.heap.size w0 W → BoxN W w.heap.size 107 [.int .i64 e, .int .i64 q, .int .i64 k, .string id, .int .i64 n, .slice a d ca]) := fun W h => q0.stays h
  have HS : Hid (∀ W, Below w0.heap.size w0 W → Seg W a d zs) := fun W h => hs.below (HB.out.trans (h.mono HB.out.size))
  have HLd : Hid (zs.length = d) := hs.1
  have HBa : Hid (Below w0.heap.size w0 (w0.alloc (.cells #[] 5)).drew) := ((Below.refl _ _).alloc (Nat.le_refl _) _).drew
  have HZa : Hid (w0.heap.size < (w0.alloc (.cells #[] 5)).drew.heap.size) := by show _ < (w0.alloc (.cells #[] 5)).heap.size; simp
  have HSn : Hid (∀ (W : World) (x : Option Addr), Seg W x 0 []) := fun W x => ⟨rfl, by simp, .inl rfl⟩
  clear q0 hs
  go_cut [3] from 4 (fun v W => ∃ g c, v = .slice (some ⟨g, 0, none⟩) 6 c ∧ Hid (Owns W w0.heap.size (some ⟨g, 0, none⟩) 6 c (pbl e 3 3 ++ pbl q 2 2 ++ pbl k 1 1)) ∧ Hid (Below w0.heap.size w0 W))
  case first =>
    go_region_held3 (fun W => W.cell? ⟨w.heap.size, 0, none⟩ = some (.int .i64 e) ∧ W.cell? ⟨w.heap.size, 1, none⟩ = some (.int .i64 q) ∧ W.cell? ⟨w.heap.size, 2, none⟩ = some (.int .i64 k)) (first | (refine ⟨?_, ?_, ?_⟩ <;> assumption) | go_keep) (first
      | (go_at_call 126; refine (specPutL g2 5 cc2 k 1 6 1 rfl (pbl e 3 3 ++ pbl q 2 2) (pbl e 3 3 ++ pbl q 2 2 ++ pbl k 1 1) _ own2.seg hl2 (by omega) (by omega) (by omega) (by omega) rfl rfl).mono ?_; rintro r y3 ⟨⟨g3, cc3, rfl, own3⟩, hb3⟩
         have hB3 : Below w0.heap.size w0 y3 := hB2.trans (hb3.mono hB2.size)
         have m0 := (HQ.out _ hB3).cell 0 rfl
         have m1 := (HQ.out _ hB3).cell 1 rfl
         have m2 := (HQ.out _ hB3).cell 2 rfl)
      | (go_at_call 126; refine (specPutL g1 3 cc1 q 2 5 2 rfl (pbl e 3 3) (pbl e 3 3 ++ pbl q 2 2) _ own1.seg hl1 (by omega) (by omega) (by omega) (by omega) rfl rfl).mono ?_; rintro r y2 ⟨⟨g2, cc2, rfl, own2⟩, hb2⟩
         have hB2 : Below w0.heap.size w0 y2 := hB1.trans (hb2.mono hB1.size)
         have hl2 := (own2.lt g2 rfl).2
         have p0 := (HQ.out _ hB2).cell 0 rfl
         have p1 := (HQ.out _ hB2).cell 1 rfl
         have p2 := (HQ.out _ hB2).cell 2 rfl)
      | (go_at_call 126; refine (specPutL w0.heap.size 0 0 e 3 3 3 rfl [] (pbl e 3 3) _ (HSn.out _ _) HZa.out (by omega) (by omega) (by omega) (by omega) rfl rfl).mono ?_; rintro r y1 ⟨⟨g1, cc1, rfl, own1⟩, hb1⟩
         have hB1 : Below w0.heap.size w0 y1 := HBa.out.trans (hb1.mono HBa.out.size)
         have hl1 := (own1.lt g1 rfl).2
         have s0 := (HQ.out _ hB1).cell 0 rfl
         have s1 := (HQ.out _ hB1).cell 1 rfl
         have s2 := (HQ.out _ hB1).cell 2 rfl)
      | fail)
    all_goals
      have HO3 : Hid (Owns y3 w0.heap.size (some ⟨g3, 0, none⟩) 6 cc3 (pbl e 3 3 ++ pbl q 2 2 ++ pbl k 1 1)) := owns_low own3 hB2.size
      have HB3 : Hid (Below w0.heap.size w0 y3) := hB3
      clear own1 own2 own3 hb1 hb2 hb3 hB1 hB2 hB3 hl1 hl2
      go_wp2_with fail
      go_meet
      exact ⟨g3, cc3, rfl, HO3, HB3⟩
  case rest =>
  clear c0 c1 c2 c3 c4 c5 HBa HZa HSn
  obtain ⟨g3, cc3, rfl, HO3, HB3⟩ := hcut
  obtain ⟨y3, hy3⟩ : ∃ y3, wc = y3 := ⟨_, rfl⟩
  rw [hy3] at HO3 HB3 ⊢
  clear hy3
  obtain ⟨i0, ji, jz0, jz1, jz2⟩ := info_parts Tryz.info5
  have HBd : Hid (Below w0.heap.size w0 y3.drew) := HB3.out.drew
  have HOd : Hid (Owns y3.drew w0.heap.size (some ⟨g3, 0, none⟩) 6 cc3 (pbl e 3 3 ++ pbl q 2 2 ++ pbl k 1 1)) := HO3.out.below (Below.refl _ _).drew
  have hl3 : g3 < y3.drew.heap.size := (HOd.out.lt g3 rfl).2
  have c3 := (HQ.out _ HB3.out).cell 3 rfl
  go_upto_region 2 with fail
  go_cut [3] from 4 (fun v W => ∃ g c, v = .slice (some ⟨g, 0, none⟩) (7 + id.size) c ∧ Hid (Owns W w0.heap.size (some ⟨g, 0, none⟩) (7 + id.size) c (headR e q k id)) ∧ Hid (Below w0.heap.size w0 W))
  case first =>
    go_region_held3 (fun W => W.cell? ⟨w.heap.size, 3, none⟩ = some (.string id)) (first | assumption | go_keep) (first
      | (refine step_append_app rfl (.tmp 18) (.tmp 20) 22 9 rfl y3.drew.heap.size 5 i0 (.int .u8 0) 1 1 Tryz.underlying22 ji jz0 jz1 jz2 rfl (by decide) g4 7 cc4 _ rfl own4.1 _ id.size (byteCells id) rfl (Src.ofString _ Tryz.underlying9 id) (by unfold maxLen; omega) (by omega) hb4.size (7 + id.size) rfl (by omega) ((headR e q k id).map (Value.int .u8)) (by rw [byteCells_txI, ← List.map_append]; rfl) ?_; intro g5 cc5 y5 hown5 hg5
         have hB5 : Below w0.heap.size w0 y5 := hB4.grown hg5 hB4.size (fun q e => by injection e with e; have := (own4.lt g4 rfl).1; have := HBd.out.size; omega)
         have q3 := (HQ.out _ hB5).cell 3 rfl)
      | (go_at_call 126; refine (specPutL g3 6 cc3 id.size 1 7 1 rfl (pbl e 3 3 ++ pbl q 2 2 ++ pbl k 1 1) (pbl e 3 3 ++ pbl q 2 2 ++ pbl k 1 1 ++ pbl id.size 1 1) _ HOd.out.seg hl3 (by omega) (by omega) (by omega) (by omega) rfl rfl).mono ?_; rintro r y4 ⟨⟨g4, cc4, rfl, own4⟩, hb4⟩
         have hB4 : Below w0.heap.size w0 y4 := HBd.out.trans (hb4.mono HBd.out.size)
         have p3 := (HQ.out _ hB4).cell 3 rfl)
      | fail)
    all_goals
      have HO5 : Hid (Owns y5 w0.heap.size (some ⟨g5, 0, none⟩) (7 + id.size) cc5 (headR e q k id)) := ⟨own_low hown5 HBd.out.size, headR_range _ _ _ _⟩
      have HB5 : Hid (Below w0.heap.size w0 y5) := hB5
      clear own4 hb4 hB4 hown5 hg5 hB5 p3 q3
      go_wp2_with fail
      go_meet
      exact ⟨g5, cc5, rfl, HO5, HB5⟩
  case rest =>
  clear c3 HBd HOd hl3 HO3 HB3
  obtain ⟨g5, cc5, rfl, HO5, HB5⟩ := hcut
  obtain ⟨y5, hy5⟩ : ∃ y5, wc = y5 := ⟨_, rfl⟩
  rw [hy5] at HO5 HB5 ⊢
  clear hy5
  have HBd : Hid (Below w0.heap.size w0 y5.drew) := HB5.out.drew
  have HOd : Hid (Owns y5.drew w0.heap.size (some ⟨g5, 0, none⟩) (7 + id.size) cc5 (headR e q k id)) := HO5.out.below (Below.refl _ _).drew
  have hl5 : g5 < y5.drew.heap.size := (HOd.out.lt g5 rfl).2
  have c4 := (HQ.out _ HB5.out).cell 4 rfl
  have c5 := (HQ.out _ HB5.out).cell 5 rfl
  have hzd := HLd.out
  go_upto_region 3 with fail
  go_cut [3] from 4 (fun v W => ∃ g c, v = .slice (some ⟨g, 0, none⟩) (12 + id.size + d) c ∧ Hid (Owns W w0.heap.size (some ⟨g, 0, none⟩) (12 + id.size + d) c (recB e q k id n zs)) ∧ Hid (Below w0.heap.size w0 W))
  case first =>
    go_region_held3 (fun W => W.cell? ⟨w.heap.size, 4, none⟩ = some (.int .i64 n) ∧ W.cell? ⟨w.heap.size, 5, none⟩ = some (.slice a d ca)) (first | (refine ⟨?_, ?_⟩ <;> assumption) | go_keep) (first
      | (refine step_append_app rfl (.tmp 29) (.tmp 31) 22 22 rfl y6.heap.size 5 i0 (.int .u8 0) 1 1 Tryz.underlying22 ji jz0 jz1 jz2 rfl (by decide) g7 (12 + id.size) cc7 _ rfl own7.1 _ d (zs.map (Value.int .u8)) rfl (HS.out _ hB7).src (by unfold maxLen; omega) (by omega) hb7.size (12 + id.size + d) rfl (by omega) ((recB e q k id n zs).map (Value.int .u8)) (by rw [← List.map_append]; rfl) ?_; intro g8 cc8 y8 hown8 hg8
         have hB8 : Below w0.heap.size w0 y8 := hB7.grown hg8 hB7.size (fun q e => by injection e with e; have := (own7.lt g7 rfl).1; have := hB6.size; omega)
         have s4 := (HQ.out _ hB8).cell 4 rfl
         have s5 := (HQ.out _ hB8).cell 5 rfl)
      | (go_at_call 126; refine (specPutL g6 (11 + id.size) cc6 d 1 (12 + id.size) 1 rfl (headR e q k id ++ pbl n 4 4) (headR e q k id ++ pbl n 4 4 ++ pbl zs.length 1 1) _ own6.seg hl6 (by omega) (by omega) (by omega) (by omega) (by omega) (by rw [hzd])).mono ?_; rintro r y7 ⟨⟨g7, cc7, rfl, own7⟩, hb7⟩
         have hB7 : Below w0.heap.size w0 y7 := hB6.trans (hb7.mono hB6.size)
         have q4 := (HQ.out _ hB7).cell 4 rfl
         have q5 := (HQ.out _ hB7).cell 5 rfl)
      | (go_at_call 126; refine (specPutL g5 (7 + id.size) cc5 n 4 (11 + id.size) 4 rfl (headR e q k id) (headR e q k id ++ pbl n 4 4) _ HOd.out.seg hl5 (by omega) (by omega) (by omega) (by omega) (by omega) rfl).mono ?_; rintro r y6 ⟨⟨g6, cc6, rfl, own6⟩, hb6⟩
         have hB6 : Below w0.heap.size w0 y6 := HBd.out.trans (hb6.mono HBd.out.size)
         have hl6 := (own6.lt g6 rfl).2
         have p4 := (HQ.out _ hB6).cell 4 rfl
         have p5 := (HQ.out _ hB6).cell 5 rfl)
      | fail)
    all_goals
      have HO8 : Hid (Owns y8 w0.heap.size (some ⟨g8, 0, none⟩) (12 + id.size + d) cc8 (recB e q k id n zs)) := ⟨own_low hown8 hB6.size, recB_range _ _ _ _ _ _ (HS.out _ hB7).2.1⟩
      have HB8 : Hid (Below w0.heap.size w0 y8) := hB8
      clear own6 own7 hb6 hb7 hB6 hB7 hl6 hown8 hg8 hB8 p4 p5 q4 q5 s4 s5
      go_wp2_with fail
      go_meet
      exact ⟨g8, cc8, rfl, HO8, HB8⟩
  case rest =>
  clear c4 c5 HBd HOd hl5 HO5 HB5
  obtain ⟨g8, cc8, rfl, HO8, HB8⟩ := hcut
  obtain ⟨y8, hy8⟩ : ∃ y8, wc = y8 := ⟨_, rfl⟩
  rw [hy8] at HO8 HB8 ⊢
  clear hy8
  generalize hL : recB e q k id n zs = L at *
  have HL : Hid (recB e q k id n zs = L) := hL
  clear hL
  have hl8 : g8 < y8.heap.size := (HO8.out.lt g8 rfl).2
  go_wp2_with fail
  refine (specCrc_any _ _ cc8 L y8 HO8.out.seg (by omega)).mono ?_
  rintro r y9 ⟨rfl, rfl⟩
  have hcr : crcL L ^^^ 4294967295 < 4294967296 := xor_lt32 _ _ (crcL_lt L HO8.out.2) (by omega)
  go_wp2_with fail
  refine (specPutL g8 (12 + id.size + d) cc8 (crcL L ^^^ 4294967295) 4 (16 + id.size + d) 4 rfl L (sumB L) _ HO8.out.seg hl8 (by omega) (by omega) (by omega) (by omega) (by omega) rfl).mono ?_
  rintro r y10 ⟨⟨g10, cc10, rfl, own10⟩, hb10⟩
  have hcv := conv_txt (c := cc10) own10.seg
  have HB10 : Hid (Below w.heap.size w y10) := HB.out.trans ((HB8.out.trans (hb10.mono HB8.out.size)).mono HB.out.size)
  generalize hZ : sumB L = Z at *
  have HZ : Hid (sumB L = Z) := hZ
  clear own10 hb10 hZ
  go_wp2_with fail
  go_ret
  exact ⟨by rw [HL.out, HZ.out]; rfl, HB10.out⟩

end Go.Proofs.YtlkgopoicpnacaaGreatDoor

namespace Go.Proofs.YtlkgopoicpnacaaGreatDoor
open Go.RowKit
set_option linter.unusedVariables false

theorem str_at (s : ByteArray) (k : Nat) (h : k < s.size) : s.data.toList[k]'(by rw [Array.length_toList]; exact h) = s[k] := by
  rw [Array.getElem_toList]
  rfl

set_option maxRecDepth 10000 in
set_option maxHeartbeats 800000 in
theorem specId_any (s : ByteArray) (w : World) (hm : s.size ≤ 9223372036854775807) :
    Calls Tryz.prog 82 #[.string s] w fun e w' => e = .returned (.bool (idB s.data.toList)) ∧ w' = w := by
  have HL : Hid (s.data.toList.length = s.size) := Array.length_toList
  go_enter Tryz.func82, Tryz.ntmps82
  go_wp2_with fail
  go_loop [3] (fun v => ∃ k : Nat, k ≤ s.size ∧ v = .int .i64 k ∧ Hid (∀ j (hj : j < s.data.toList.length), j < k → idC s.data.toList[j] = true)) (fun v => s.size - (intOf v).toNat)
  case atStart => exact ⟨0, Nat.zero_le _, rfl, fun j _ hj => absurd hj (Nat.not_lt_zero _)⟩
  case round =>
    obtain ⟨k, hk, rfl, HN⟩ := hrel
    by_cases hlt : k < s.size
    · have hki : (k : Int) < (s.size : Int) := by omega
      have hc0 : (0 : Int) ≤ (s[k].toNat : Int) := by omega
      have hc1 : (s[k].toNat : Int) ≤ 255 := by have := s[k].toNat_lt; omega
      have HA : Hid (idC (s.data.toList[k]'(by rw [Array.length_toList]; exact hlt)) = ((decide (97 ≤ s[k].toNat) && decide (s[k].toNat ≤ 122)) || (decide (48 ≤ s[k].toNat) && decide (s[k].toNat ≤ 57)))) := by show _ = _; rw [str_at s k hlt, idC]
      have HG : Hid (idC (s.data.toList[k]'(by rw [Array.length_toList]; exact hlt)) = true → ∀ j (hj : j < s.data.toList.length), j < k + 1 → idC s.data.toList[j] = true) := fun h j hj hjk => by
        by_cases e : j = k
        · subst e; exact h
        · exact HN.out j hj (by omega)
      have HBd : Hid (idC (s.data.toList[k]'(by rw [Array.length_toList]; exact hlt)) = false → idB s.data.toList = false) := fun h => idB_bad (by rw [Array.length_toList]; exact hlt) h
      by_cases h1 : 97 ≤ s[k].toNat ∧ s[k].toNat ≤ 122
      · have HT : Hid (∀ j (hj : j < s.data.toList.length), j < k + 1 → idC s.data.toList[j] = true) := HG.out (by rw [HA.out, decide_eq_true h1.1, decide_eq_true h1.2]; rfl)
        have HI : Hid (∀ W : World, Calls Tryz.prog 81 #[.int .i64 (s[k].toNat : Int), .int .i64 97, .int .i64 122] W fun e w' => e = .returned (.bool true) ∧ w' = W) := fun W => l1In_yes _ _ _ W (by omega) (by omega)
        clear h1 HA HG HBd HN
        go_wp2_with (go_at_call 81; refine (HI.out _).mono ?_; rintro e w' ⟨rfl, rfl⟩)
        go_round
        case rel => exact ⟨k + 1, by omega, by go_num, HT⟩
        case measure => simp [intOf]; omega
      have HI : Hid (∀ W : World, Calls Tryz.prog 81 #[.int .i64 (s[k].toNat : Int), .int .i64 97, .int .i64 122] W fun e w' => e = .returned (.bool false) ∧ w' = W) := fun W => l1In_no _ _ _ W (by omega)
      by_cases h2 : 48 ≤ s[k].toNat ∧ s[k].toNat ≤ 57
      · have HT : Hid (∀ j (hj : j < s.data.toList.length), j < k + 1 → idC s.data.toList[j] = true) := HG.out (by rw [HA.out, decide_eq_true h2.1, decide_eq_true h2.2]; simp)
        have HI2 : Hid (∀ W : World, Calls Tryz.prog 81 #[.int .i64 (s[k].toNat : Int), .int .i64 48, .int .i64 57] W fun e w' => e = .returned (.bool true) ∧ w' = W) := fun W => l1In_yes _ _ _ W (by omega) (by omega)
        clear h1 h2 HA HG HBd HN
        go_wp2_with (go_at_call 81; first | (with_reducible refine (HI.out _).mono ?_; rintro e w' ⟨rfl, rfl⟩) | (with_reducible refine (HI2.out _).mono ?_; rintro e w' ⟨rfl, rfl⟩))
        go_round
        case rel => exact ⟨k + 1, by omega, by go_num, HT⟩
        case measure => simp [intOf]; omega
      · have HF : Hid (idB s.data.toList = false) := HBd.out (by rw [HA.out, Bool.or_eq_false_iff, Bool.and_eq_false_iff, Bool.and_eq_false_iff]; simp only [decide_eq_false_iff_not]; omega)
        have HI2 : Hid (∀ W : World, Calls Tryz.prog 81 #[.int .i64 (s[k].toNat : Int), .int .i64 48, .int .i64 57] W fun e w' => e = .returned (.bool false) ∧ w' = W) := fun W => l1In_no _ _ _ W (by omega)
        clear h1 h2 HA HG HBd HN
        go_wp2_with (go_at_call 81; first | (with_reducible refine (HI.out _).mono ?_; rintro e w' ⟨rfl, rfl⟩) | (with_reducible refine (HI2.out _).mono ?_; rintro e w' ⟨rfl, rfl⟩))
        go_ret
        exact ⟨ret_bool HF.out.symm, rfl⟩
    · have hkl : k = s.size := by omega
      subst hkl
      have HE : Hid (idB s.data.toList = (decide ((1 : Int) ≤ (s.size : Int)) && decide ((s.size : Int) ≤ 8))) := by
        show _ = _
        rw [idB_good fun j hj => HN.out j hj (by rw [HL.out] at hj; exact hj), HL.out, Bool.eq_iff_iff]
        simp only [decide_eq_true_eq, Bool.and_eq_true]
        omega
      clear HN
      go_wp2_with fail
      refine (l1In_any (s.size : Int) 1 8 w).mono ?_
      rintro e w1 ⟨rfl, hw1⟩
      subst hw1
      go_wp2_with fail
      go_ret
      exact ⟨ret_bool HE.out.symm, rfl⟩

end Go.Proofs.YtlkgopoicpnacaaGreatDoor
