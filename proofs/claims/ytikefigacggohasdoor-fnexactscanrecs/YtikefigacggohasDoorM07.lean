/- What the functions that the laws call do to the world: the copy of bytes, their comparison. Each for slices of at most 2^40 bytes. What the laws' own functions do with records: the size, the copy, the comparison. -/
import Derived.Test.YtikefigacggohasDoorRows
import Derived.Test.YtikefigacggohasDoorM01
import Derived.Deep.QuietTactic
import Derived.BigQuiet
import Derived.Test.YtikefigacggohasDoorM06
namespace Go.Proofs.YtikefigacggohasDoor
open Go.RowKit
set_option linter.unusedVariables false

set_option maxHeartbeats 400000 in
theorem toByteS_any (a : Option Addr) (len cap : Nat) (zs : List Int) (w : World) (hs : Seg w a len zs) (hl : len ≤ 1099511627776) :
    Calls Tryd.prog 30 #[.slice a len cap] w fun e w' => e = .returned (.slice (some ⟨w.heap.size, 0, none⟩) len len) ∧
      w'.ownsRow w.heap.size 5 1 (.slice (some ⟨w.heap.size, 0, none⟩) len len) len (zs.map (Value.int .u8)) ∧ Below w.heap.size w w' := by
  obtain ⟨i0, hi, hz0, hz1, hz2⟩ := info_parts Tryd.info5
  have hzs : zs.length = len := hs.1
  have HS : Hid (Seg w a len zs) := hs
  clear hs
  go_enter Tryd.func30, Tryd.ntmps30
  go_wp2_with (at_make; refine wpList_make_full _ rfl _ _ 22 rfl w.heap.size 5 i0 (.int .u8 0) 1 Tryd.underlying22 hi hz0 hz1 _ _ _ _ len rfl rfl rfl rfl (by rw [hz2]; omega) (by unfold maxLen; omega) (Nat.le_refl _) ?_; intro w1 hown hgrow)
  have hrow : w1.ownsRow w.heap.size 5 1 (.slice (some ⟨w.heap.size, 0, none⟩) len len) len ((zs.take 0 ++ List.replicate (len - 0) 0).map (Value.int .u8)) := by
    simpa [toList_madeCells_one, Value.cells] using hown
  have hbel : Below w.heap.size w w1 := (Below.refl _ _).grown hgrow (Nat.le_refl _) (by simp)
  have HR := (show Hid _ from hrow)
  have HB := (show Hid _ from hbel)
  clear hown hgrow hrow hbel
  go_loopw [4] (fun i wr => ∃ k : Nat, k ≤ len ∧ i = .int .i64 k ∧ Hid (wr.ownsRow w.heap.size 5 1 (.slice (some ⟨w.heap.size, 0, none⟩) len len) len ((zs.take k ++ List.replicate (len - k) 0).map (Value.int .u8))) ∧ Hid (Below w.heap.size w wr)) (fun i _ => len - (intOf i).toNat)
  case atStart => exact ⟨0, Nat.zero_le _, rfl, HR, HB⟩
  case round =>
    clear HR HB
    obtain ⟨k, hk, rfl, HO, HB⟩ := hrel
    by_cases hlt : k < len
    · obtain ⟨b, off, rfl, hb, hc⟩ : ∃ b off, a = some ⟨b, off, none⟩ ∧ b < w.heap.size ∧ ∀ i, i < len → w.cell? ⟨b, off + i, none⟩ = some (.int .u8 (zs.getD i 0)) := by
        rcases HS.out.2.2 with h | h
        · omega
        · exact h
      have hcell : wr.cell? ⟨b, off + k, none⟩ = some (.int .u8 (zs.getD k 0)) := (HB.out.cell (p := ⟨b, off + k, none⟩) hb).trans (hc k hlt)
      have hfro : wr.frozen? ⟨w.heap.size, k, none⟩ = false := HO.out.frozenAt k
      obtain ⟨u, hu⟩ : ∃ u, wr.cell? ⟨w.heap.size, k, none⟩ = some u := by
        rw [HO.out.cellAt k (by omega)]
        exact ⟨_, List.getElem?_eq_getElem (by simp; omega)⟩
      clear hc
      go_wp2
      go_roundw
      case rel => 
        refine ⟨k + 1, by omega, by go_num, ?_, ?_⟩
        · have h := (HO.out.stored k (.int .u8 (zs.getD k 0))).1
          rw [copied_step zs k len hlt hzs] at h
          have hkz : k < zs.length := by omega
          show World.ownsRow _ _ _ _ _ _ _
          simpa [hkz] using h
        · exact HB.out.setCell (Nat.le_refl _) _
      case measure => simp [intOf]; omega
    · go_wp2
      go_ret
      have hkl : k = len := by omega
      subst hkl
      refine ⟨rfl, ?_, HB.out⟩
      have h := HO.out
      rw [List.take_of_length_le (by omega)] at h
      simpa using h

set_option maxHeartbeats 400000 in
theorem eqByteS_same (a b : Option Addr) (len ca cb : Nat) (xs : List Int) (w : World) (hx : Seg w a len xs) (hy : Seg w b len xs) (hla : len ≤ 1099511627776) :
    Calls Tryd.prog 32 #[.slice a len ca, .slice b len cb] w fun e w' => e = .returned (.bool true) ∧ ∃ n, w' = w.drewN n := by
  have HX : Hid (Seg w a len xs) := hx
  have HY : Hid (Seg w b len xs) := hy
  clear hx hy
  have hne : ((len : Int) != (len : Int)) = false := by simp
  go_enter Tryd.func32, Tryd.ntmps32
  go_wp2
  go_loopw [5] (fun i wr => ∃ k : Nat, k ≤ len ∧ i = .int .i64 k ∧ Hid (∃ n, wr = w.drewN n)) (fun i _ => len - (intOf i).toNat)
  case atStart => exact ⟨0, Nat.zero_le _, rfl, ⟨0, rfl⟩⟩
  case round =>
    obtain ⟨k, hk, rfl, HW⟩ := hrel
    by_cases hlt : k < len
    · obtain ⟨ba, oa, rfl, hba, hca⟩ : ∃ b off, a = some ⟨b, off, none⟩ ∧ b < w.heap.size ∧ ∀ i, i < len → w.cell? ⟨b, off + i, none⟩ = some (.int .u8 (xs.getD i 0)) := by
        rcases HX.out.2.2 with h | h
        · omega
        · exact h
      obtain ⟨bb, ob, rfl, hbb, hcb⟩ : ∃ b' off, b = some ⟨b', off, none⟩ ∧ b' < w.heap.size ∧ ∀ i, i < len → w.cell? ⟨b', off + i, none⟩ = some (.int .u8 (xs.getD i 0)) := by
        rcases HY.out.2.2 with h | h
        · omega
        · exact h
      have ha : wr.cell? ⟨ba, oa + k, none⟩ = some (.int .u8 (xs.getD k 0)) := by obtain ⟨n, rfl⟩ := HW; exact hca k hlt
      have hb : wr.cell? ⟨bb, ob + k, none⟩ = some (.int .u8 (xs.getD k 0)) := by obtain ⟨n, rfl⟩ := HW; exact hcb k hlt
      clear hca hcb
      have hki : (k : Int) < (len : Int) := by omega
      have hk0 : (0 : Int) ≤ (k : Int) := by omega
      go_wp2
      go_quiet (fail)
      go_wp2
      go_roundw
      case rel =>
        refine ⟨k + 1, by omega, by go_num, ?_⟩
        obtain ⟨n, rfl⟩ := HW.out
        exact ⟨_, World.drewN_drewN _ _ _⟩
      case measure => simp [intOf]; omega
    · go_wp2
      go_ret
      exact ⟨rfl, HW.out⟩

end Go.Proofs.YtikefigacggohasDoor

namespace Go.Proofs.YtikefigacggohasDoor
open Go.RowKit
set_option linter.unusedVariables false

theorem owns_lowR {w : World} {base lo n cap : Nat} {a : Option Addr} {zs : List Int} (h : Owns w base a n cap zs) (hl : lo ≤ base) : Owns w lo a n cap zs := ⟨own_low h.1 hl, h.2⟩

set_option maxHeartbeats 800000 in
theorem szRec_any (e q k : Int) (id : ByteArray) (n : Int) (a : Option Addr) (d ca : Nat) (m : Int) (w : World) (hn : 0 ≤ m) (hn2 : m ≤ 1048576) (hi : id.size ≤ maxLen) (hl : d ≤ maxLen) :
    Calls Tryd.prog 7 #[.agg #[.int .i64 e, .int .i64 q, .int .i64 k, .string id, .int .i64 n, .slice a d ca], .int .i64 m] w fun r w' => (∃ L : Int, r = .returned (.int .i64 L) ∧ (L < 0 ∨ (id.size ≤ 1048576 ∧ d ≤ 1048576 ∧ 0 ≤ L))) ∧ Below w.heap.size w w' := by
  have hm : maxLen < 9223372036854775808 := by decide
  have HB : Hid (Below w.heap.size w (w.alloc (.cells #[.int .i64 e, .int .i64 q, .int .i64 k, .string id, .int .i64 n, .slice a d ca] 24))) := (Below.refl _ _).alloc (Nat.le_refl _) _
  by_cases h1 : m - (id.size : Int) < 0
  · go_enter Tryd.func7, Tryd.ntmps7
    go_wp2_with fail
    go_ret
    exact ⟨⟨-1, rfl, .inl (by omega)⟩, HB.out⟩
  by_cases h2 : m - (id.size : Int) - (d : Int) < 0
  · go_enter Tryd.func7, Tryd.ntmps7
    go_wp2
    go_ret
    exact ⟨⟨-1, rfl, .inl (by omega)⟩, HB.out⟩
  · go_enter Tryd.func7, Tryd.ntmps7
    go_wp2
    go_ret
    exact ⟨⟨m - (id.size : Int) - (d : Int), rfl, .inr ⟨by omega, by omega, by omega⟩⟩, HB.out⟩

set_option maxHeartbeats 1600000 in
theorem toRec_any (e q k : Int) (id : ByteArray) (n : Int) (a : Option Addr) (d ca : Nat) (zs : List Int) (w : World) (hs : Seg w a d zs) (hl : d ≤ 1048576) :
    Calls Tryd.prog 9 #[.agg #[.int .i64 e, .int .i64 q, .int .i64 k, .string id, .int .i64 n, .slice a d ca]] w fun r w' => (∃ g, r = .returned (.agg #[.int .i64 e, .int .i64 q, .int .i64 k, .string id, .int .i64 n, .slice (some ⟨g, 0, none⟩) d d]) ∧ Owns w' w.heap.size (some ⟨g, 0, none⟩) d d zs) ∧ Below w.heap.size w w' := by
  have HS : Hid (Seg w a d zs) := hs
  clear hs
  obtain ⟨W0, hW0⟩ : ∃ W0, (((w.alloc (.cells #[.int .i64 e, .int .i64 q, .int .i64 k, .string id, .int .i64 n, .slice a d ca] 24)).alloc (.cells #[.int .i64 0, .int .i64 0, .int .i64 0, .string ⟨#[]⟩, .int .i64 0, .slice none 0 0] 27)).alloc (.cells #[.int .i64 e, .int .i64 q, .int .i64 k, .string id, .int .i64 n, .slice none 0 0] 27)) = W0 := ⟨_, rfl⟩
  have HE : Hid ((((w.alloc (.cells #[.int .i64 e, .int .i64 q, .int .i64 k, .string id, .int .i64 n, .slice a d ca] 24)).alloc (.cells #[.int .i64 0, .int .i64 0, .int .i64 0, .string ⟨#[]⟩, .int .i64 0, .slice none 0 0] 27)).alloc (.cells #[.int .i64 e, .int .i64 q, .int .i64 k, .string id, .int .i64 n, .slice none 0 0] 27)) = W0) := hW0
  have HB : Hid (Below w.heap.size w W0) := by show Below _ _ _; rw [← hW0]; exact (((Below.refl _ _).alloc (Nat.le_refl _) _).alloc (by simp) _).alloc (by simp; omega) _
  have HZ : Hid (W0.heap.size = w.heap.size + 3) := by show _ = _; rw [← hW0]; simp
  have HR : Hid (BoxN W0 (w.heap.size + 1) 27 [.int .i64 0, .int .i64 0, .int .i64 0, .string ⟨#[]⟩, .int .i64 0, .slice none 0 0]) := by
    show BoxN _ _ _ _
    rw [← hW0]
    have := (BoxN.new (w.alloc (.cells #[.int .i64 e, .int .i64 q, .int .i64 k, .string id, .int .i64 n, .slice a d ca] 24)) 27 [.int .i64 0, .int .i64 0, .int .i64 0, .string ⟨#[]⟩, .int .i64 0, .slice none 0 0]).alloc (.cells #[.int .i64 e, .int .i64 q, .int .i64 k, .string id, .int .i64 n, .slice none 0 0] 27)
    rw [World.size_alloc] at this
    exact this
  have HO : Hid (BoxN W0 (w.heap.size + 1 + 1) 27 [.int .i64 e, .int .i64 q, .int .i64 k, .string id, .int .i64 n, .slice none 0 0]) := by
    show BoxN _ _ _ _
    rw [← hW0]
    have := BoxN.new ((w.alloc (.cells #[.int .i64 e, .int .i64 q, .int .i64 k, .string id, .int .i64 n, .slice a d ca] 24)).alloc (.cells #[.int .i64 0, .int .i64 0, .int .i64 0, .string ⟨#[]⟩, .int .i64 0, .slice none 0 0] 27)) 27 [.int .i64 e, .int .i64 q, .int .i64 k, .string id, .int .i64 n, .slice none 0 0]
    rw [World.size_alloc, World.size_alloc] at this
    exact this
  clear hW0
  go_enter Tryd.func9, Tryd.ntmps9
  go_wp2_with fail
  rw [HE.out]
  clear HE
  refine (toByteS_any a d ca zs _ (HS.out.below HB.out) (by omega)).mono ?_
  rintro r x3 ⟨rfl, ho3, hb3⟩
  have r3 := HR.out.stays hb3
  have o3 := HO.out.stays hb3
  have HO3 : Hid (Owns x3 W0.heap.size (some ⟨W0.heap.size, 0, none⟩) d d zs) := ⟨ho3, HS.out.2.1⟩
  have HB3 : Hid (Below w.heap.size w x3) := HB.out.trans (hb3.mono HB.out.size)
  have a0 := r3.cell 0 rfl
  have a1 := r3.cell 1 rfl
  have a2 := r3.cell 2 rfl
  have a3 := r3.cell 3 rfl
  have a4 := r3.cell 4 rfl
  have a5 := r3.cell 5 rfl
  have fa0 := r3.frozen 0
  have fa1 := r3.frozen 1
  have fa2 := r3.frozen 2
  have fa3 := r3.frozen 3
  have fa4 := r3.frozen 4
  have fa5 := r3.frozen 5
  have b0 := o3.cell 0 rfl
  have b1 := o3.cell 1 rfl
  have b2 := o3.cell 2 rfl
  have b3 := o3.cell 3 rfl
  have b4 := o3.cell 4 rfl
  have b5 := o3.cell 5 rfl
  have fb5 := o3.frozen 5
  clear hb3 ho3 r3 o3 HR HO
  go_wp2
  refine bodyPost_ret (v := .agg #[.int .i64 e, .int .i64 q, .int .i64 k, .string id, .int .i64 n, .slice (some ⟨W0.heap.size, 0, none⟩) d d]) (by simp [results, Tryd.f9, go_sem, a0, a1, a2, a3, a4, a5]) rfl ?_
  have hz := HZ.out
  refine ⟨⟨_, rfl, ?_⟩, ?_⟩
  · have hA : ((some ⟨W0.heap.size, 0, none⟩ : Option Addr).map (·.block)) ≠ some (w.heap.size + 1) := by simp; omega
    have hB : ((some ⟨W0.heap.size, 0, none⟩ : Option Addr).map (·.block)) ≠ some (w.heap.size + 1 + 1) := by simp; omega
    exact owns_lowR (owns_set (owns_set (owns_set (owns_set (owns_set (owns_set (owns_set HO3.out hB) hA) hA) hA) hA) hA) hA) (by omega)
  · exact ((((((HB3.out.setCell (by dsimp only; omega) _).setCell (by dsimp only; omega) _).setCell (by dsimp only; omega) _).setCell (by dsimp only; omega) _).setCell (by dsimp only; omega) _).setCell (by dsimp only; omega) _).setCell (by dsimp only; omega) _

set_option maxHeartbeats 1600000 in
theorem eqRec_same (e q k : Int) (id : ByteArray) (n : Int) (a b : Option Addr) (d ca cb : Nat) (xs : List Int) (w : World) (hx : Seg w a d xs) (hy : Seg w b d xs) (hla : d ≤ 1099511627776) :
    Calls Tryd.prog 11 #[.agg #[.int .i64 e, .int .i64 q, .int .i64 k, .string id, .int .i64 n, .slice a d ca], .agg #[.int .i64 e, .int .i64 q, .int .i64 k, .string id, .int .i64 n, .slice b d cb]] w fun r w' => r = .returned (.bool true) ∧ Below w.heap.size w w' := by
  have HX : Hid (Seg w a d xs) := hx
  have HY : Hid (Seg w b d xs) := hy
  clear hx hy
  have n0 : (e != e) = false := by simp
  have n1 : (q != q) = false := by simp
  have n2 : (k != k) = false := by simp
  have n4 : (n != n) = false := by simp
  go_enter Tryd.func11, Tryd.ntmps11
  go_wp2_with fail
  have hba : Below w.heap.size w ((w.alloc (.cells #[.int .i64 e, .int .i64 q, .int .i64 k, .string id, .int .i64 n, .slice a d ca] 27)).alloc (.cells #[.int .i64 e, .int .i64 q, .int .i64 k, .string id, .int .i64 n, .slice b d cb] 27)) := ((Below.refl _ _).alloc (Nat.le_refl _) _).alloc (by simp) _
  refine (eqByteS_same a b d ca cb xs _ (HX.out.below hba) (HY.out.below hba) hla).mono ?_
  rintro r x3 ⟨rfl, st3⟩
  have HB3 : Hid (Below w.heap.size w x3) := Still.below st3 hba
  clear st3 hba
  go_wp2
  go_ret
  exact ⟨rfl, HB3.out⟩

end Go.Proofs.YtikefigacggohasDoor
