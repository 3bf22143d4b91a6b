/- Marks that are asked for; marks of tables. The comparison of bytes that the laws call. For slices of at most 2^40 bytes. What the marks do: a row of the call's own is written over with 1, 2, .., and read again; nothing else is written. For rows of at most 2^41 bytes. What the functions that the laws call do to the world: the copy of bytes. Each for slices of at most 2^40 bytes. -/
import Derived.Test.YtbaijmkghgnleaaGreatDoorM44
import Derived.Deep.RegionWith
import Derived.Test.YtbaijmkghgnleaaGreatDoorRows
import Derived.Test.YtbaijmkghgnleaaGreatDoorM01
import Derived.Deep.QuietTactic
import Derived.BigQuiet
namespace Go.Proofs.YtbaijmkghgnleaaGreatDoor
open Go.RowKit
set_option linter.unusedVariables false

theorem marksF_at (k n j : Nat) (hj : j < n) : (marksF k n)[j]? = some (mt (k + 2 * j), mt (k + 2 * j + 1)) := by
  simp [marksF, hj]

set_option maxRecDepth 10000 in
set_option maxHeartbeats 1600000 in
theorem heldFS_any (a : Option Addr) (n cap k : Nat) (w : World) (h : Flds w a n (marksF k n)) (hn : n ≤ 1099511627776) (hk : k ≤ 1099511627776) :
    Calls Tryz.prog 40 #[.slice a n cap, .int .i64 (k : Int)] w fun e w' => e = .returned (.int .i64 ((k + 2 * n : Nat) : Int)) ∧ Below w.heap.size w w' := by
  have HX : Hid (Flds w a n (marksF k n)) := h
  clear h
  go_enter Tryz.func40, Tryz.ntmps40
  go_wp2_with fail
  go_loopw [1, 5] (fun q i wr => ∃ j : Nat, j ≤ n ∧ i = .int .i64 j ∧ q = .int .i64 ((k + 2 * j : Nat) : Int) ∧ Hid (Below w.heap.size w wr)) (fun _ i _ => n - (intOf i).toNat)
  case atStart => exact ⟨0, Nat.zero_le _, rfl, rfl, Below.refl _ _⟩
  case round =>
    obtain ⟨j, hj, rfl, rfl, HB⟩ := hrel
    by_cases hlt : j < n
    · obtain ⟨b, off, x, y, rfl, hb, hfx, hc0, hc1⟩ := (HX.out.below HB.out).at hlt
      obtain ⟨rfl, rfl⟩ : x = mt (k + 2 * j) ∧ y = mt (k + 2 * j + 1) := by
        rw [marksF_at k n j hlt] at hfx
        simp at hfx
        exact ⟨hfx.1.symm, hfx.2.symm⟩
      have hji : (j : Int) < (n : Int) := by omega
      have hq1 : ((k + 2 * j : Nat) : Int) + 1 = ((k + 2 * j + 1 : Nat) : Int) := by omega
      have hq2 : ((k + 2 * j + 1 : Nat) : Int) + 1 = ((k + 2 * (j + 1) : Nat) : Int) := by omega
      have hqb : ((k + 2 * j + 1 : Nat) : Int) ≤ 4398046511104 := by omega
      have HM1 : Hid (∀ W, Calls Tryz.prog 64 #[.int .i64 ((k + 2 * j : Nat) : Int)] W fun e w' => e = .returned (.string (mt (k + 2 * j))) ∧ Below W.heap.size W w') := fun W => markText_any _ W (by omega)
      have HM2 : Hid (∀ W, Calls Tryz.prog 64 #[.int .i64 ((k + 2 * j + 1 : Nat) : Int)] W fun e w' => e = .returned (.string (mt (k + 2 * j + 1))) ∧ Below W.heap.size W w') := fun W => markText_any _ W (by omega)
      generalize mt (k + 2 * j) = m1 at *
      generalize mt (k + 2 * j + 1) = m2 at *
      obtain ⟨K2, hK2⟩ : ∃ K2, k + 2 * (j + 1) = K2 := ⟨_, rfl⟩
      obtain ⟨K1, hK1⟩ : ∃ K1, k + 2 * j + 1 = K1 := ⟨_, rfl⟩
      obtain ⟨K0, hK0⟩ : ∃ K0, k + 2 * j = K0 := ⟨_, rfl⟩
      rw [hK2] at hq2
      rw [hK1] at hq1 hq2 hqb HM2
      rw [hK0] at hq1 HM1 ⊢
      have HK2 : Hid (k + 2 * (j + 1) = K2) := hK2
      have hK0b : (K0 : Int) ≤ 4398046511104 := by omega
      clear hK0 hK1 hK2 hfx
      have hne1 : (m1.toList != m1.toList) = false := by simp
      have hne2 : (m2.toList != m2.toList) = false := by simp
      have HC : Hid (∀ W, Below wr.heap.size wr W → W.cell? ⟨b, off + j * 2, none⟩ = some (.string m1) ∧ W.cell? ⟨b, off + j * 2 + 1, none⟩ = some (.string m2) ∧ Below w.heap.size w W) := fun W hW => ⟨(hW.cell (p := ⟨b, _, none⟩) hb).trans hc0, (hW.cell (p := ⟨b, _, none⟩) hb).trans hc1, HB.out.trans (hW.mono HB.out.size)⟩
      go_wp2_with fail
      go_region_with (first
        | (go_at_call 64; refine (HM1.out _).mono ?_; rintro e x1 ⟨rfl, hb1⟩; have hb1' : Below wr.heap.size wr x1 := (Below.refl wr.heap.size wr).drew.trans (hb1.mono (Nat.le_refl _)); obtain ⟨k0, k1, k2⟩ := HC.out x1 hb1'))
      all_goals
        have HB1 : Hid (Below wr.heap.size wr x1) := hb1'
        have HC1 : Hid (∀ W, Below x1.heap.size x1 W → W.cell? ⟨b, off + j * 2 + 1, none⟩ = some (.string m2) ∧ Below w.heap.size w W) := fun W hW => ⟨(HC.out W (HB1.out.trans (hW.mono HB1.out.size))).2.1, (HC.out W (HB1.out.trans (hW.mono HB1.out.size))).2.2⟩
        have hbx : b < x1.heap.size := Nat.lt_of_lt_of_le hb HB1.out.size
        clear hb1 hb1' k0 k2 hc0 hc1
        go_wp2_with fail
        go_region_with (first
          | (go_at_call 64; refine (HM2.out _).mono ?_; rintro e x3 ⟨rfl, hb3⟩; have hb3' : Below x1.heap.size x1 x3 := (Below.refl x1.heap.size x1).drew.trans (hb3.mono (Nat.le_refl _)); obtain ⟨l1, l2⟩ := HC1.out x3 hb3'))
        all_goals
          have HB3 : Hid (Below w.heap.size w x3) := l2
          clear hb3 hb3' l1 l2 k1
          go_wp2_with fail
          go_roundw
          case rel => exact ⟨j + 1, by omega, by go_num, by rw [HK2.out], HB3⟩
          case measure => simp [intOf]; omega
    · have hjn : j = n := by omega
      subst hjn
      go_wp2_with fail
      go_ret
      exact ⟨rfl, HB.out⟩

set_option maxHeartbeats 400000 in
theorem markT_any (base : Nat) (m : Int) (a : Option Addr) (n cap : Nat) (xs : List Fld) (w : World) (h : OwnF w base (.slice a n cap) n xs) (hn : n ≤ 1099511627776) :
    Calls Tryz.prog 13 #[.agg #[.int .i64 m, .slice a n cap], .int .i64 1] w fun e w' => e = .returned (.int .i64 ((1 + 2 * n : Nat) : Int)) ∧ OwnF w' base (.slice a n cap) n (marksF 1 n) ∧ w.grownBy w' (a.map (·.block)) := by
  have HO : Hid (OwnF w base (.slice a n cap) n xs) := h
  clear h
  have HB : Hid (Below w.heap.size w (w.alloc (.cells #[.int .i64 m, .slice a n cap] 32))) := (Below.refl _ _).alloc (Nat.le_refl _) _
  have HO1 : Hid (OwnF (w.alloc (.cells #[.int .i64 m, .slice a n cap] 32)) base (.slice a n cap) n xs) := ⟨own_stays HO.out.1 HB.out, HO.out.2⟩
  go_enter Tryz.func13, Tryz.ntmps13
  go_wp2_with fail
  refine (markFS_any base a n cap 1 xs _ HO1.out hn (by omega)).mono ?_
  rintro e x1 ⟨rfl, ho, hg⟩
  have HO2 : Hid (OwnF x1 base (.slice a n cap) n (marksF 1 n)) := ho
  have HG2 : Hid (w.grownBy x1 (a.map (·.block))) := grown_trans (grown_below HB.out) hg
  clear ho hg
  go_wp2_with fail
  go_ret
  exact ⟨rfl, HO2.out, HG2.out⟩

set_option maxHeartbeats 400000 in
theorem heldT_any (m : Int) (a : Option Addr) (n cap : Nat) (w : World) (h : Flds w a n (marksF 1 n)) (hn : n ≤ 1099511627776) :
    Calls Tryz.prog 16 #[.agg #[.int .i64 m, .slice a n cap], .int .i64 1] w fun e w' => e = .returned (.int .i64 ((1 + 2 * n : Nat) : Int)) ∧ Below w.heap.size w w' := by
  have HX : Hid (Flds w a n (marksF 1 n)) := h
  clear h
  have HB : Hid (Below w.heap.size w (w.alloc (.cells #[.int .i64 m, .slice a n cap] 32))) := (Below.refl _ _).alloc (Nat.le_refl _) _
  go_enter Tryz.func16, Tryz.ntmps16
  go_wp2_with fail
  refine (heldFS_any a n cap 1 _ (HX.out.below HB.out) hn (by omega)).mono ?_
  rintro e x1 ⟨rfl, hb1⟩
  have HB1 : Hid (Below w.heap.size w x1) := HB.out.trans (hb1.mono HB.out.size)
  clear hb1
  have hpos : ¬ ((1 + 2 * n : Nat) : Int) < 0 := by omega
  have hposd : decide (((1 + 2 * n : Nat) : Int) < 0) = false := by simp; omega
  obtain ⟨q, hq⟩ : ∃ q, 1 + 2 * n = q := ⟨_, rfl⟩
  have HQ : Hid (1 + 2 * n = q) := hq
  rw [hq] at hpos hposd ⊢
  clear hq
  go_wp2_with fail
  go_ret
  exact ⟨ret_int (by rw [HQ.out]), HB1.out⟩

end Go.Proofs.YtbaijmkghgnleaaGreatDoor

namespace Go.Proofs.YtbaijmkghgnleaaGreatDoor
open Go.RowKit
set_option linter.unusedVariables false

set_option maxHeartbeats 400000 in
theorem eqByteS_same (a b : Option Addr) (len ca cb : Nat) (xs : List Int) (w : World) (hx : Seg w a len xs) (hy : Seg w b len xs) (hla : len ≤ 1099511627776) :
    Calls Tryz.prog 11 #[.slice a len ca, .slice b len cb] w fun e w' => e = .returned (.bool true) ∧ ∃ n, w' = w.drewN n := by
  have HX : Hid (Seg w a len xs) := hx
  have HY : Hid (Seg w b len xs) := hy
  clear hx hy
  have hne : ((len : Int) != (len : Int)) = false := by simp
  go_enter Tryz.func11, Tryz.ntmps11
  go_wp2
  go_loopw [5] (fun i wr => ∃ k : Nat, k ≤ len ∧ i = .int .i64 k ∧ Hid (∃ n, wr = w.drewN n)) (fun i _ => len - (intOf i).toNat)
  case atStart => exact ⟨0, Nat.zero_le _, rfl, ⟨0, rfl⟩⟩
  case round =>
    obtain ⟨k, hk, rfl, HW⟩ := hrel
    by_cases hlt : k < len
    · obtain ⟨ba, oa, rfl, hba, hca⟩ : ∃ b off, a = some ⟨b, off, none⟩ ∧ b < w.heap.size ∧ ∀ i, i < len → w.cell? ⟨b, off + i, none⟩ = some (.int .u8 (xs.getD i 0)) := by
        rcases HX.out.2.2 with h | h
        · omega
        · exact h
      obtain ⟨bb, ob, rfl, hbb, hcb⟩ : ∃ b' off, b = some ⟨b', off, none⟩ ∧ b' < w.heap.size ∧ ∀ i, i < len → w.cell? ⟨b', off + i, none⟩ = some (.int .u8 (xs.getD i 0)) := by
        rcases HY.out.2.2 with h | h
        · omega
        · exact h
      have ha : wr.cell? ⟨ba, oa + k, none⟩ = some (.int .u8 (xs.getD k 0)) := by obtain ⟨n, rfl⟩ := HW; exact hca k hlt
      have hb : wr.cell? ⟨bb, ob + k, none⟩ = some (.int .u8 (xs.getD k 0)) := by obtain ⟨n, rfl⟩ := HW; exact hcb k hlt
      clear hca hcb
      have hki : (k : Int) < (len : Int) := by omega
      have hk0 : (0 : Int) ≤ (k : Int) := by omega
      go_wp2
      go_quiet (fail)
      go_wp2
      go_roundw
      case rel =>
        refine ⟨k + 1, by omega, by go_num, ?_⟩
        obtain ⟨n, rfl⟩ := HW.out
        exact ⟨_, World.drewN_drewN _ _ _⟩
      case measure => simp [intOf]; omega
    · go_wp2
      go_ret
      exact ⟨rfl, HW.out⟩

end Go.Proofs.YtbaijmkghgnleaaGreatDoor

namespace Go.Proofs.YtbaijmkghgnleaaGreatDoor
open Go.RowKit
set_option linter.unusedVariables false

/-- The marks: n bytes from k on. -/
def marks (k n : Nat) : List Int := (List.range n).map fun i => ((k + i : Nat) : Int) % 256

theorem marks_range (k n : Nat) : ∀ x ∈ marks k n, 0 ≤ x ∧ x ≤ 255 := by
  intro x hx
  simp only [marks, List.mem_map] at hx
  obtain ⟨i, _, rfl⟩ := hx
  omega

theorem marked_step (k : Nat) (zs : List Int) (j : Nat) (h : j < zs.length) :
    ((marks k j ++ zs.drop j).map (Value.int .u8)).set j (.int .u8 (((k + j : Nat) : Int) % 256)) = (marks k (j + 1) ++ zs.drop (j + 1)).map (Value.int .u8) := by
  have hl : (marks k j).length = j := by simp [marks]
  have hd : zs.drop j = zs[j] :: zs.drop (j + 1) := List.drop_eq_getElem_cons h
  have hm : marks k (j + 1) = marks k j ++ [((k + j : Nat) : Int) % 256] := by simp [marks, List.range_succ]
  rw [hd, hm, List.map_append, List.set_append_right _ _ (by simp [hl]), List.length_map, hl, Nat.sub_self, List.map_cons, List.set_cons_zero]
  rw [List.map_append, List.map_append, List.append_assoc]
  rfl

theorem marks_len (k n : Nat) : (marks k n).length = n := by simp [marks]

theorem marks_get (k n j : Nat) (h : j < n) : (marks k n).getD j 0 = ((k : Int) + (j : Int)) % 256 := by
  rw [List.getD_eq_getElem?_getD, List.getElem?_eq_getElem (by simpa [marks] using h)]
  simp [marks]

set_option maxHeartbeats 400000 in
theorem mark_any (base : Nat) (a : Option Addr) (n cap k : Nat) (zs : List Int) (w : World) (h : Owns w base a n cap zs) (hn : n ≤ 2199023255552) (hk : k ≤ 2199023255552) :
    Calls Tryz.prog 14 #[.slice a n cap, .int .i64 k] w fun e w' => e = .returned (.int .i64 ((k + n : Nat) : Int)) ∧ Owns w' base a n cap (marks k n) ∧ Only w w' a := by
  have hzl : zs.length = n := h.seg.1
  have HO : Hid (Owns w base a n cap zs) := h
  clear h
  go_enter Tryz.func14, Tryz.ntmps14
  go_wp2
  go_loopw [1, 5] (fun v i wr => ∃ j : Nat, j ≤ n ∧ i = .int .i64 j ∧ v = .int .i64 ((k + j : Nat) : Int) ∧ Hid (Owns wr base a n cap (marks k j ++ zs.drop j)) ∧ Hid (Only w wr a)) (fun _ i _ => n - (intOf i).toNat)
  case atStart => exact ⟨0, Nat.zero_le _, rfl, by go_num, by simpa [marks, Hid] using HO.out, ⟨rfl, rfl, rfl, Nat.le_refl _, fun _ _ _ => rfl⟩⟩
  case round =>
    clear HO
    obtain ⟨j, hj, rfl, rfl, HO, HB⟩ := hrel
    by_cases hlt : j < n
    · obtain ⟨g, rfl, hf, ⟨u, hu⟩⟩ : ∃ g, a = some ⟨g, 0, none⟩ ∧ wr.frozen? ⟨g, j, none⟩ = false ∧ ∃ u, wr.cell? ⟨g, j, none⟩ = some u := by
        rcases HO.out.1.2 with ⟨he, hn0⟩ | ⟨g, cap', cur, he, _⟩
        · omega
        · simp only [Value.slice.injEq] at he
          obtain ⟨rfl, _, rfl⟩ := he
          refine ⟨g, rfl, HO.out.1.frozenAt j, ?_⟩
          rw [HO.out.1.cellAt j (by omega)]
          exact ⟨_, List.getElem?_eq_getElem (by have := HO.out.1.1; omega)⟩
      go_wp2
      go_roundw
      case rel =>
        refine ⟨j + 1, by omega, by go_num, by go_num, ?_, ?_⟩
        · have h := (HO.out.1.stored j (.int .u8 (((k + j : Nat) : Int) % 256))).1
          rw [marked_step k zs j (by omega)] at h
          refine ⟨by simpa using h, ?_⟩
          intro x hx
          rcases List.mem_append.1 hx with hx | hx
          · exact marks_range _ _ x hx
          · exact HO.out.2 x (List.mem_append_right _ (by
              rw [List.drop_eq_getElem_cons (by omega)]
              exact List.mem_cons_of_mem _ hx))
        · have h := (HO.out.1.stored j (.int .u8 (((k : Int) + (j : Int)) % 256))).2
          have hB := HB.out
          exact ⟨h.os.trans hB.os, h.tape.trans hB.tape, h.output.trans hB.output, Nat.le_trans hB.size h.size, fun i hi hne => (h.block i (Nat.lt_of_lt_of_le hi hB.size) hne).trans (hB.block i hi hne)⟩
      case measure => simp [intOf]; omega
    · go_wp2
      go_ret
      have hjn : j = n := by omega
      subst hjn
      refine ⟨ret_int (by omega), ?_, HB.out⟩
      have h := HO.out
      rw [List.drop_of_length_le (by omega), List.append_nil] at h
      exact h

set_option maxHeartbeats 400000 in
theorem held_any (base : Nat) (a : Option Addr) (n cap k : Nat) (w : World) (h : Owns w base a n cap (marks k n)) (hn : n ≤ 2199023255552) (hk : k ≤ 2199023255552) :
    Calls Tryz.prog 15 #[.slice a n cap, .int .i64 k] w fun e w' => e = .returned (.int .i64 ((k + n : Nat) : Int)) ∧ w' = w := by
  have HS : Hid (Seg w a n (marks k n)) := h.seg
  clear h
  go_enter Tryz.func15, Tryz.ntmps15
  go_wp2
  go_loop [1, 5] (fun v i => ∃ j : Nat, j ≤ n ∧ i = .int .i64 j ∧ v = .int .i64 ((k + j : Nat) : Int)) (fun _ i => n - (intOf i).toNat)
  case atStart => exact ⟨0, Nat.zero_le _, rfl, by go_num⟩
  case round =>
    obtain ⟨j, hj, rfl, rfl⟩ := hrel
    by_cases hlt : j < n
    · obtain ⟨b, off, rfl, hc⟩ : ∃ b off, a = some ⟨b, off, none⟩ ∧ w.cell? ⟨b, off + j, none⟩ = some (.int .u8 (((k : Int) + (j : Int)) % 256)) := by
        rcases HS.out.2.2 with h | ⟨b, off, e1, _, hc⟩
        · omega
        · exact ⟨b, off, e1, by rw [hc j hlt, marks_get k n j hlt]⟩
      go_wp2
      go_round
      case rel => exact ⟨j + 1, by omega, by go_num, by go_num⟩
      case measure => simp [intOf]; omega
    · go_wp2
      go_ret
      have hjn : j = n := by omega
      subst hjn
      exact ⟨ret_int (by omega), rfl⟩

theorem mark_one (base : Nat) (a : Option Addr) (n cap : Nat) (zs : List Int) (w : World) (h : Owns w base a n cap zs) (hn : n ≤ 2199023255552) :
    Calls Tryz.prog 14 #[.slice a n cap, .int .i64 1] w fun e w' => e = .returned (.int .i64 ((1 + n : Nat) : Int)) ∧ Owns w' base a n cap (marks 1 n) ∧ Only w w' a := mark_any base a n cap 1 zs w h hn (by omega)

theorem held_one (base : Nat) (a : Option Addr) (n cap : Nat) (w : World) (h : Owns w base a n cap (marks 1 n)) (hn : n ≤ 2199023255552) :
    Calls Tryz.prog 15 #[.slice a n cap, .int .i64 1] w fun e w' => e = .returned (.int .i64 ((1 + n : Nat) : Int)) ∧ w' = w := held_any base a n cap 1 w h hn (by omega)

end Go.Proofs.YtbaijmkghgnleaaGreatDoor

namespace Go.Proofs.YtbaijmkghgnleaaGreatDoor
open Go.RowKit
set_option linter.unusedVariables false

set_option maxHeartbeats 400000 in
theorem toByteS_any (a : Option Addr) (len cap : Nat) (zs : List Int) (w : World) (hs : Seg w a len zs) (hl : len ≤ 1099511627776) :
    Calls Tryz.prog 9 #[.slice a len cap] w fun e w' => e = .returned (.slice (some ⟨w.heap.size, 0, none⟩) len len) ∧
      w'.ownsRow w.heap.size 5 1 (.slice (some ⟨w.heap.size, 0, none⟩) len len) len (zs.map (Value.int .u8)) ∧ Below w.heap.size w w' := by
  obtain ⟨i0, hi, hz0, hz1, hz2⟩ := info_parts Tryz.info5
  have hzs : zs.length = len := hs.1
  have HS : Hid (Seg w a len zs) := hs
  clear hs
  go_enter Tryz.func9, Tryz.ntmps9
  go_wp2_with (at_make; refine wpList_make_full _ rfl _ _ 27 rfl w.heap.size 5 i0 (.int .u8 0) 1 Tryz.underlying27 hi hz0 hz1 _ _ _ _ len rfl rfl rfl rfl (by rw [hz2]; omega) (by unfold maxLen; omega) (Nat.le_refl _) ?_; intro w1 hown hgrow)
  have hrow : w1.ownsRow w.heap.size 5 1 (.slice (some ⟨w.heap.size, 0, none⟩) len len) len ((zs.take 0 ++ List.replicate (len - 0) 0).map (Value.int .u8)) := by
    simpa [toList_madeCells_one, Value.cells] using hown
  have hbel : Below w.heap.size w w1 := (Below.refl _ _).grown hgrow (Nat.le_refl _) (by simp)
  have HR := (show Hid _ from hrow)
  have HB := (show Hid _ from hbel)
  clear hown hgrow hrow hbel
  go_loopw [4] (fun i wr => ∃ k : Nat, k ≤ len ∧ i = .int .i64 k ∧ Hid (wr.ownsRow w.heap.size 5 1 (.slice (some ⟨w.heap.size, 0, none⟩) len len) len ((zs.take k ++ List.replicate (len - k) 0).map (Value.int .u8))) ∧ Hid (Below w.heap.size w wr)) (fun i _ => len - (intOf i).toNat)
  case atStart => exact ⟨0, Nat.zero_le _, rfl, HR, HB⟩
  case round =>
    clear HR HB
    obtain ⟨k, hk, rfl, HO, HB⟩ := hrel
    by_cases hlt : k < len
    · obtain ⟨b, off, rfl, hb, hc⟩ : ∃ b off, a = some ⟨b, off, none⟩ ∧ b < w.heap.size ∧ ∀ i, i < len → w.cell? ⟨b, off + i, none⟩ = some (.int .u8 (zs.getD i 0)) := by
        rcases HS.out.2.2 with h | h
        · omega
        · exact h
      have hcell : wr.cell? ⟨b, off + k, none⟩ = some (.int .u8 (zs.getD k 0)) := (HB.out.cell (p := ⟨b, off + k, none⟩) hb).trans (hc k hlt)
      have hfro : wr.frozen? ⟨w.heap.size, k, none⟩ = false := HO.out.frozenAt k
      obtain ⟨u, hu⟩ : ∃ u, wr.cell? ⟨w.heap.size, k, none⟩ = some u := by
        rw [HO.out.cellAt k (by omega)]
        exact ⟨_, List.getElem?_eq_getElem (by simp; omega)⟩
      clear hc
      go_wp2
      go_roundw
      case rel => 
        refine ⟨k + 1, by omega, by go_num, ?_, ?_⟩
        · have h := (HO.out.stored k (.int .u8 (zs.getD k 0))).1
          rw [copied_step zs k len hlt hzs] at h
          have hkz : k < zs.length := by omega
          show World.ownsRow _ _ _ _ _ _ _
          simpa [hkz] using h
        · exact HB.out.setCell (Nat.le_refl _) _
      case measure => simp [intOf]; omega
    · go_wp2
      go_ret
      have hkl : k = len := by omega
      subst hkl
      refine ⟨rfl, ?_, HB.out⟩
      have h := HO.out
      rw [List.take_of_length_le (by omega)] at h
      simpa using h

end Go.Proofs.YtbaijmkghgnleaaGreatDoor
