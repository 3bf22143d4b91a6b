/- The specification's copy of a table. The specification's test of a range. What the specification's PutPrefix answers: the bytes and behind them those of the prefixed number, in memory of its own; nothing that was there is written. For lists of at most 2^40 bytes that are not nil. What the specification's PutPrefix answers, where the number is not within its bounds. What the specification's PutPrefix answers, where the number is not within its bounds. What the specification's PutPrefix answers, whatever its arguments. For lists of at most 2^40 bytes that are not nil. -/
import Derived.Test.YtbaijmkghgnleaaGreatDoorM10
import Derived.Test.YtbaijmkghgnleaaGreatDoorM14
import Derived.Test.YtbaijmkghgnleaaGreatDoorM05
import Derived.Test.YtbaijmkghgnleaaGreatDoorM04
import Derived.Test.YtbaijmkghgnleaaGreatDoorM01
namespace Go.Proofs.YtbaijmkghgnleaaGreatDoor
open Go.RowKit
set_option linter.unusedVariables false

set_option maxRecDepth 10000 in
set_option maxHeartbeats 1600000 in
theorem specCopy_any (m : Int) (a : Option Addr) (len ca : Nat) (xs : List Fld) (w : World) (hx : Flds w a len xs) (hl : len ≤ 2097152) :
    Calls Tryz.prog 21 #[.agg #[.int .i64 m, .slice a len ca]] w fun e w' => ∃ v, e = .returned (.agg #[.int .i64 m, v]) ∧ OwnF w' w.heap.size v len xs ∧ Below w.heap.size w w' := by
  obtain ⟨i0, hi, hz0, hz1, hz2⟩ := info_parts info_field
  have HX : Hid (Flds w a len xs) := hx
  have hlen := hx.1
  have hnil := fun h => hx.none_nil h
  have HNil : Hid (a = none → len = 0) := hnil
  clear hx hnil
  have HA : Hid (0 + len ≤ maxLen ∧ (0 + len) * 32 ≤ 140737488355328 ∧ (fieldCells xs).length = len * 2) := ⟨by unfold maxLen; omega, by omega, by rw [fieldCells_len]; omega⟩
  go_enter Tryz.func21, Tryz.ntmps21
  go_wp2_with fail
  obtain ⟨w2, hw2⟩ : ∃ w2, (w.alloc (.cells #[.int .i64 m, .slice a len ca] 32)).alloc (.cells #[.int .i64 0, .slice none 0 0] 32) = w2 := ⟨_, rfl⟩
  have hq1 : w2.heap[w.heap.size]? = some (.cells #[.int .i64 m, .slice a len ca] 32 (0, 0)) := by
    rw [← hw2]
    have h1 := heap_alloc_new w (.cells #[.int .i64 m, .slice a len ca] 32)
    have hlt : w.heap.size < (w.alloc (.cells #[.int .i64 m, .slice a len ca] 32)).heap.size := by simp
    exact (((Below.refl _ _).alloc (Nat.le_refl _) (.cells #[.int .i64 0, .slice none 0 0] 32)).block _ hlt).trans h1
  have hq2 : w2.heap[w.heap.size + 1]? = some (.cells #[.int .i64 0, .slice none 0 0] 32 (0, 0)) := by
    rw [← hw2]
    have h1 := heap_alloc_new (w.alloc (.cells #[.int .i64 m, .slice a len ca] 32)) (.cells #[.int .i64 0, .slice none 0 0] 32)
    simpa using h1
  have HB2 : Hid (Below w.heap.size w w2) := by show Below _ _ _; rw [← hw2]; exact ((Below.refl _ _).alloc (Nat.le_refl _) _).alloc (by simp) _
  have hs2 : w2.heap.size = w.heap.size + 2 := by rw [← hw2]; simp
  have HW2 : Hid (w2.heap.size = w.heap.size + 2) := hs2
  rw [hw2]
  clear hw2 hs2
  have HO : Hid ((w2.alloc (.cells #[] 69)).drew.ownsRow w2.heap.size 69 2 (.slice (some ⟨w2.heap.size, 0, none⟩) 0 0) 0 []) := World.ownsRow_lit w2 #[] 0 (Nat.le_refl _) (Nat.zero_le _) rfl
  have HB3 : Hid (Below w2.heap.size w2 (w2.alloc (.cells #[] 69)).drew) := below_drewN ((Below.refl _ _).alloc (Nat.le_refl _) _) 1
  have HF3 : Hid (Flds (w2.alloc (.cells #[] 69)).drew a len xs) := HX.out.below (HB2.out.trans (HB3.out.mono HB2.out.size))
  have HS3 : Hid (w2.heap.size ≤ (w2.alloc (.cells #[] 69)).drew.heap.size) := HB3.out.size
  have hu1 : (w2.alloc (.cells #[] 69)).heap[w.heap.size]? = some (.cells #[.int .i64 m, .slice a len ca] 32 (0, 0)) := (HB3.out.block _ (by have := HW2.out; omega)).trans hq1
  have hu2 : (w2.alloc (.cells #[] 69)).heap[w.heap.size + 1]? = some (.cells #[.int .i64 0, .slice none 0 0] 32 (0, 0)) := (HB3.out.block _ (by have := HW2.out; omega)).trans hq2
  have HU : Hid (∀ W, (w2.alloc (.cells #[] 69)).drew.grownBy W (some w2.heap.size) → W.heap[w.heap.size]? = some (.cells #[.int .i64 m, .slice a len ca] 32 (0, 0)) ∧ W.heap[w.heap.size + 1]? = some (.cells #[.int .i64 0, .slice none 0 0] 32 (0, 0))) := by
    intro W hg
    have h2 := HW2.out
    have h3 := HS3.out
    exact ⟨(hg.block _ (by omega) (by intro e; injection e with e; omega)).trans hu1, (hg.block _ (by omega) (by intro e; injection e with e; omega)).trans hu2⟩
  obtain ⟨c0, c1, _, _⟩ := two_cells hq1
  obtain ⟨d0, d1, _, _⟩ := two_cells hu1
  clear hq1 hq2 hu1 hu2
  go_region_law (first
    | (refine step_append_src rfl (.tmp 5) (.tmp 7) 30 rfl w2.heap.size 69 i0 (.agg #[.string ⟨#[]⟩, .string ⟨#[]⟩]) 2 32 Tryz.underlying30 hi hz0 hz1 hz2 rfl (by decide) w2.heap.size 0 0 [] rfl HO.out a len ca (fieldCells xs) rfl HNil.out HA.out.2.2 HF3.out.cells (fieldCells_one xs) HA.out.1 HA.out.2.1 HS3.out ?_; intro v4 w4 hown hgrow; obtain ⟨a4, cap4, rfl⟩ := own_shape hown; obtain ⟨e0, e1, _, _⟩ := two_cells (HU.out w4 hgrow).1; obtain ⟨g0, g1, g2, g3⟩ := two_cells (HU.out w4 hgrow).2))
  all_goals
    rw [Nat.zero_add, List.nil_append] at hown
    have h2 := HW2.out
    have HO4 : Hid (OwnF ((w4.setCell ⟨w.heap.size + 1, 0, none⟩ (.int .i64 m)).setCell ⟨w.heap.size + 1, 1, none⟩ (.slice a4 len cap4)) w.heap.size (.slice a4 len cap4) len xs) :=
      ⟨own_down (ownsRow_setCell_below (ownsRow_setCell_below hown (a := ⟨w.heap.size + 1, 0, none⟩) (by dsimp only; omega) _) (a := ⟨w.heap.size + 1, 1, none⟩) (by dsimp only; omega) _) (by omega), HX.out.2.1⟩
    have HB4 : Hid (Below w.heap.size w ((w4.setCell ⟨w.heap.size + 1, 0, none⟩ (.int .i64 m)).setCell ⟨w.heap.size + 1, 1, none⟩ (.slice a4 len cap4))) := by
      have h1 : Below w.heap.size w w4 := (HB2.out.trans (HB3.out.mono HB2.out.size)).grown hgrow (by have := HS3.out; omega) (fun k hk => by injection hk with hk; omega)
      exact (h1.setCell (p := ⟨w.heap.size + 1, 0, none⟩) (by dsimp only; omega) _).setCell (p := ⟨w.heap.size + 1, 1, none⟩) (by dsimp only; omega) _
    clear hown hgrow h2
    go_wp2
    refine bodyPost_ret (v := .agg #[.int .i64 m, .slice a4 len cap4]) (by simp [results, Tryz.f21, go_sem, g0, g1]) rfl ?_
    exact ⟨_, rfl, HO4.out, HB4.out⟩

end Go.Proofs.YtbaijmkghgnleaaGreatDoor

namespace Go.Proofs.YtbaijmkghgnleaaGreatDoor
open Go.RowKit
set_option linter.unusedVariables false

set_option maxHeartbeats 400000 in
theorem tin_yes (x lo hi : Int) (w : World) (h1 : lo ≤ x) (h2 : x ≤ hi) : Calls Tryz.prog 20 #[.int .i64 x, .int .i64 lo, .int .i64 hi] w fun e w' => e = .returned (.bool true) ∧ w' = w := by
  go_enter Tryz.func20, Tryz.ntmps20
  go_wp2
  go_ret
  exact ⟨rfl, rfl⟩

set_option maxHeartbeats 400000 in
theorem tin_no (x lo hi : Int) (w : World) (h : x < lo ∨ hi < x) : Calls Tryz.prog 20 #[.int .i64 x, .int .i64 lo, .int .i64 hi] w fun e w' => e = .returned (.bool false) ∧ w' = w := by
  by_cases h1 : x < lo
  · clear h
    go_enter Tryz.func20, Tryz.ntmps20
    go_wp2
    go_ret
    exact ⟨rfl, rfl⟩
  · have h2 : hi < x := by omega
    clear h
    go_enter Tryz.func20, Tryz.ntmps20
    go_wp2
    go_ret
    exact ⟨ret_bool (by simp; omega), rfl⟩

end Go.Proofs.YtbaijmkghgnleaaGreatDoor

namespace Go.Proofs.YtbaijmkghgnleaaGreatDoor
open Go.RowKit
set_option linter.unusedVariables false

set_option maxRecDepth 10000 in
set_option maxHeartbeats 800000 in
theorem specPfx_yes (b off len cap B F n : Nat) (zs : List Int) (w : World) (hs : Seg w (some ⟨b, off, none⟩) len zs) (hl : len ≤ 1099511627776) (h1 : 1 ≤ B) (h8 : B ≤ 8) (hF : F ≤ 255) (hn : n ≤ 16777216) :
    Calls Tryz.prog 67 #[.slice (some ⟨b, off, none⟩) len cap, .int .i64 B, .int .i64 F, .int .i64 n] w fun e w' => ∃ a' cap', e = .returned (.slice a' (zs ++ pfx B F n).length cap') ∧ Owns w' w.heap.size a' (zs ++ pfx B F n).length cap' (zs ++ pfx B F n) ∧ Below w.heap.size w w' := by
  obtain ⟨i0, hi, hz0, hz1, hz2⟩ := info_parts Tryz.info5
  have HS : Hid (Seg w (some ⟨b, off, none⟩) len zs) := hs
  have hzl : zs.length = len := hs.1
  have hS1 : Hid (Seg (w.alloc (.cells #[] 5)) (some ⟨b, off, none⟩) len zs) := hs.below ((Below.refl _ _).alloc (Nat.le_refl _) _)
  have hO1 : Hid ((w.alloc (.cells #[] 5)).ownsRow w.heap.size 5 1 (.slice (some ⟨w.heap.size, 0, none⟩) 0 0) 0 []) := World.ownsRow_lit w #[] 0 (Nat.le_refl _) (Nat.zero_le _) rfl
  clear hs
  have HR : Hid (∀ x ∈ zs ++ pfx B F n, 0 ≤ x ∧ x ≤ 255) := by
    intro x hx
    rcases List.mem_append.1 hx with hx | hx
    · exact HS.out.2.1 x hx
    · exact pfx_range B F n h1 h8 hF x hx
  have hk1 : (1 : Int) ≤ (B : Int) := by omega
  have hk8 : (B : Int) ≤ 8 := by omega
  have hF0 : (0 : Int) ≤ (F : Int) := by omega
  have hF1 : (F : Int) ≤ 255 := by omega
  have hni : (n : Int) ≤ 16777216 := by omega
  have hn0 : (0 : Int) ≤ (n : Int) := by omega
  have HMM : Hid (wrap64 (wrap64 ((2 : Int) ^ B) - 1) = ((2 ^ B - 1 : Nat) : Int)) := mask_form B h1 h8
  have hand := andNot_tab B (by omega) F (by omega)
  have htop := top_small B F h1 h8 hF
  have hps := pow_small B h1 h8
  have HJ : Hid (∀ x : Nat, x < 2 ^ B → bits .or .i64 ((F / 2 ^ B * 2 ^ B : Nat) : Int) (x : Int) = ((F / 2 ^ B * 2 ^ B + x : Nat) : Int)) := fun x hx => or_join _ B x hx (by omega) (by omega)
  have HP : Hid (pfx B F n = if n < 2 ^ B - 1 then [((F / 2 ^ B * 2 ^ B + n : Nat) : Int)] else ((F / 2 ^ B * 2 ^ B + (2 ^ B - 1) : Nat) : Int) :: grp 5 (n - (2 ^ B - 1))) := rfl
  generalize F / 2 ^ B * 2 ^ B = f at *
  have HJm : Hid (bits .or .i64 (f : Int) ((2 ^ B - 1 : Nat) : Int) = ((f + (2 ^ B - 1) : Nat) : Int)) := HJ.out _ (by omega)
  have HJn : Hid (n < 2 ^ B - 1 → bits .or .i64 (f : Int) (n : Int) = ((f + n : Nat) : Int)) := fun h => HJ.out _ (by omega)
  clear HJ
  generalize pfx B F n = P at *
  generalize hmm : 2 ^ B - 1 = m at *
  have hm1 : 1 ≤ m ∧ m ≤ 255 := by omega
  clear hps hmm
  by_cases hlt : n < m
  · have hor := HJn.out hlt
    have hlti : (n : Int) < (m : Int) := by omega
    have hfn : ((f + n : Nat) : Int) ≤ 255 := by omega
    have HPn : Hid (P = [((f + n : Nat) : Int)]) := by show P = _; rw [HP.out, if_pos hlt]
    clear HJm HJn HP
    generalize hxx : ((f + n : Nat) : Int) = x at *
    have hx0 : 0 ≤ x := by omega
    clear hxx
    go_enter Tryz.func67, Tryz.ntmps67
    go_wp2_with (at_builtin; refine wpList_append_own _ rfl _ _ 27 rfl w.heap.size 5 i0 (.int .u8 0) 1 1 Tryz.underlying27 hi hz0 hz1 hz2 rfl (by decide) (.slice (some ⟨w.heap.size, 0, none⟩) 0 0) 0 [] rfl hO1.out ⟨b, off, none⟩ len cap (zs.map (Value.int .u8)) rfl (by simp [hzl]) (cells_ints hS1.out) (ints_one zs) (by unfold maxLen; omega) (by omega) (by simp) ?_; intro v1 w1 hown1 hgrow1 _; refine Hid.out ?_)
    refine hidden ?_
    have HO : Hid (w1.ownsRow w.heap.size 5 1 v1 len (zs.map (Value.int .u8))) := by
      show World.ownsRow _ _ _ _ _ _ _
      simpa using hown1
    have HB : Hid (Below w.heap.size w w1) := ((Below.refl _ _).alloc (Nat.le_refl _) _).grown hgrow1 (by simp) (by simp [Value.ownBlock])
    have hsz := HB.out.size
    clear hown1 hgrow1 hO1 hS1
    have HN : Hid (∀ j u, [Value.int .u8 x][j]? = some u → (w1.alloc (.cells #[.int .u8 x] 5)).cell? ((⟨w1.heap.size, 0, none⟩ : Addr).add j) = some u) := one_new w1 x
    go_wp2_with fail
    refine (tin_yes _ _ _ _ hk1 hk8).mono ?_
    rintro e w2 ⟨rfl, rfl⟩
    go_wp2_with fail
    refine (tin_yes _ _ _ _ hF0 hF1).mono ?_
    rintro e w3 ⟨rfl, rfl⟩
    have hA : len + 1 ≤ maxLen ∧ (len + 1) * 1 ≤ 140737488355328 := ⟨by unfold maxLen; omega, by omega⟩
    have hBs : w.heap.size ≤ (w3.alloc (.cells #[.int .u8 x] 5)).heap.size := by simp; omega
    have hmask := HMM.out
    go_wp2_with (at_builtin; refine wpList_append_own _ rfl _ _ 27 rfl w.heap.size 5 i0 (.int .u8 0) 1 1 Tryz.underlying27 hi hz0 hz1 hz2 rfl (by decide) v1 len _ rfl (HO.out.alloc _) ⟨w3.heap.size, 0, none⟩ 1 1 [.int .u8 x] rfl rfl HN.out (ints_one [x]) hA.1 hA.2 hBs ?_; intro v2 w4 hown hgrow _; refine Hid.out ?_)
    refine hidden ?_
    clear hmask HMM
    have HB2 : Hid (Below w.heap.size w w4) := (HB.out.alloc (by omega) _).grown hgrow (by simp; omega) (fun q hq => (HO.out.lt q hq).1)
    have HO2 : Hid (w4.ownsRow w.heap.size 5 1 v2 (zs ++ P).length ((zs ++ P).map (Value.int .u8))) := by
      show World.ownsRow _ _ _ _ _ _ _
      rw [HPn.out, List.map_append, List.length_append, hzl]
      exact hown
    clear hown hgrow HO HB HN
    obtain ⟨a', cap', rfl⟩ := shape_of_owns HO2.out
    go_wp2_with fail
    go_ret
    exact ⟨a', cap', rfl, ⟨HO2.out, HR.out⟩, HB2.out⟩
  · have hor := HJm.out
    have hlti : ¬ (n : Int) < (m : Int) := by omega
    have hfn : ((f + m : Nat) : Int) ≤ 255 := by omega
    have HPn : Hid (P = ((f + m : Nat) : Int) :: grp 5 (n - m)) := by show P = _; rw [HP.out, if_neg hlt]
    clear HJm HJn HP
    generalize hxx : ((f + m : Nat) : Int) = x at *
    have hx0 : 0 ≤ x := by omega
    clear hxx
    go_enter Tryz.func67, Tryz.ntmps67
    go_wp2_with (at_builtin; refine wpList_append_own _ rfl _ _ 27 rfl w.heap.size 5 i0 (.int .u8 0) 1 1 Tryz.underlying27 hi hz0 hz1 hz2 rfl (by decide) (.slice (some ⟨w.heap.size, 0, none⟩) 0 0) 0 [] rfl hO1.out ⟨b, off, none⟩ len cap (zs.map (Value.int .u8)) rfl (by simp [hzl]) (cells_ints hS1.out) (ints_one zs) (by unfold maxLen; omega) (by omega) (by simp) ?_; intro v1 w1 hown1 hgrow1 _; refine Hid.out ?_)
    refine hidden ?_
    have HO : Hid (w1.ownsRow w.heap.size 5 1 v1 len (zs.map (Value.int .u8))) := by
      show World.ownsRow _ _ _ _ _ _ _
      simpa using hown1
    have HB : Hid (Below w.heap.size w w1) := ((Below.refl _ _).alloc (Nat.le_refl _) _).grown hgrow1 (by simp) (by simp [Value.ownBlock])
    have hsz := HB.out.size
    clear hown1 hgrow1 hO1 hS1
    have HN : Hid (∀ j u, [Value.int .u8 x][j]? = some u → (w1.alloc (.cells #[.int .u8 x] 5)).cell? ((⟨w1.heap.size, 0, none⟩ : Addr).add j) = some u) := one_new w1 x
    go_wp2_with fail
    refine (tin_yes _ _ _ _ hk1 hk8).mono ?_
    rintro e w2 ⟨rfl, rfl⟩
    go_wp2_with fail
    refine (tin_yes _ _ _ _ hF0 hF1).mono ?_
    rintro e w3 ⟨rfl, rfl⟩
    have hA : len + 1 ≤ maxLen ∧ (len + 1) * 1 ≤ 140737488355328 := ⟨by unfold maxLen; omega, by omega⟩
    have hBs : w.heap.size ≤ (w3.alloc (.cells #[.int .u8 x] 5)).heap.size := by simp; omega
    have hmask := HMM.out
    go_wp2_with (at_builtin; refine wpList_append_own _ rfl _ _ 27 rfl w.heap.size 5 i0 (.int .u8 0) 1 1 Tryz.underlying27 hi hz0 hz1 hz2 rfl (by decide) v1 len _ rfl (HO.out.alloc _) ⟨w3.heap.size, 0, none⟩ 1 1 [.int .u8 x] rfl rfl HN.out (ints_one [x]) hA.1 hA.2 hBs ?_; intro v2 w4 hown hgrow _; refine Hid.out ?_)
    refine hidden ?_
    clear hmask HMM
    have HB2 : Hid (Below w.heap.size w w4) := (HB.out.alloc (by omega) _).grown hgrow (by simp; omega) (fun q hq => (HO.out.lt q hq).1)
    have HO2 : Hid (w4.ownsRow w.heap.size 5 1 v2 (len + 1 + 0) ((zs ++ x :: []).map (Value.int .u8))) := by
      show World.ownsRow _ _ _ _ _ _ _
      rw [List.map_append]
      exact hown
    clear hown hgrow HO HB HN
    obtain ⟨v0, hv0⟩ : ∃ v0, n - m = v0 := ⟨_, rfl⟩
    have hnv : (n : Int) - (m : Int) = (v0 : Int) := by omega
    rw [hv0] at HPn
    have hv0b : v0 ≤ 16777216 := by omega
    clear hv0 hor hand hA hBs
    go_wp2_with fail
    clear hnv
    go_loopw [3, 9] (fun nn vv wr => ∃ (k v : Nat) (pre : List Int), 1 ≤ k ∧ v ≤ 16777216 ∧ nn = .int .i64 v ∧ Hid (v < 128 ^ k) ∧ Hid (pre ++ grp k v = grp 5 v0) ∧ pre.length + k = 5 ∧ Hid (wr.ownsRow w.heap.size 5 1 vv (len + 1 + pre.length) ((zs ++ x :: pre).map (Value.int .u8))) ∧ Hid (Below w.heap.size w wr)) (fun nn _ _ => (intOf nn).toNat)
    case atStart => exact ⟨5, v0, [], by omega, hv0b, rfl, by show v0 < 128 ^ 5; omega, rfl, rfl, HO2, HB2⟩
    case round =>
      clear HO2 HB2
      obtain ⟨k, v, pre, hk, hv, rfl, HV, HG, hpk, HO, HB⟩ := hrel
      obtain ⟨k', rfl⟩ : ∃ k', k = k' + 1 := ⟨k - 1, by omega⟩
      have hsz := HB.out.size
      have hvi : (v : Int) ≤ 16777216 := by omega
      by_cases hbig : 127 < v
      · have hgf := group_form v hv
        have HG2 : Hid ((pre ++ [((v % 128 + 128 : Nat) : Int)]) ++ grp k' (v / 128) = grp 5 v0) := by
          show _ = _
          rw [← HG.out, grp, if_pos hbig, List.append_assoc]
          rfl
        have HV2 : Hid (v / 128 < 128 ^ k') := by
          show _ < _
          have := HV.out
          rw [Nat.pow_succ] at this
          omega
        have hk2 : 1 ≤ k' := by
          have := HV2.out
          by_cases h0 : k' = 0
          · subst h0; simp at this; omega
          · omega
        generalize hyy : ((v % 128 + 128 : Nat) : Int) = y at *
        have hy0 : 0 ≤ y := by omega
        have hy1 : y ≤ 255 := by omega
        clear hyy
        have HN : Hid (∀ j u, [Value.int .u8 y][j]? = some u → (wr.alloc (.cells #[.int .u8 y] 5)).cell? ((⟨wr.heap.size, 0, none⟩ : Addr).add j) = some u) := one_new wr y
        go_wp2_with (at_builtin; refine wpList_append_own _ rfl _ _ 27 rfl w.heap.size 5 i0 (.int .u8 0) 1 1 Tryz.underlying27 hi hz0 hz1 hz2 rfl (by decide) u9 (len + 1 + pre.length) _ rfl (HO.out.alloc _) ⟨wr.heap.size, 0, none⟩ 1 1 [.int .u8 y] rfl rfl HN.out (ints_one [y]) (by unfold maxLen; omega) (by omega) (by simp; omega) ?_; intro v3 w5 hown hgrow _; refine Hid.out ?_)
        refine hidden ?_
        have HB3 : Hid (Below w.heap.size w w5) := (HB.out.alloc (by omega) _).grown hgrow (by simp; omega) (fun q hq => (HO.out.lt q hq).1)
        have HO3 : Hid (w5.ownsRow w.heap.size 5 1 v3 (len + 1 + (pre ++ [y]).length) ((zs ++ x :: (pre ++ [y])).map (Value.int .u8))) := by
          show World.ownsRow _ _ _ _ _ _ _
          have e : zs ++ x :: (pre ++ [y]) = (zs ++ x :: pre) ++ [y] := by simp
          rw [e, List.map_append, List.length_append, ← Nat.add_assoc]
          exact hown
        clear hown hgrow HO HB HN hgf
        go_wp2_with fail
        go_roundw
        case rel => exact ⟨k', v / 128, pre ++ [y], hk2, by omega, by go_num, HV2, HG2, by simp; omega, HO3, HB3⟩
        case measure => simp [intOf]; omega
      · have hbi : ¬ (127 : Int) < (v : Int) := by omega
        have HG2 : Hid (pre ++ [(v : Int)] = grp 5 v0) := by
          show _ = _
          rw [← HG.out, grp, if_neg hbig]
        clear hbig
        have HN : Hid (∀ j u, [Value.int .u8 (v : Int)][j]? = some u → (wr.alloc (.cells #[.int .u8 (v : Int)] 5)).cell? ((⟨wr.heap.size, 0, none⟩ : Addr).add j) = some u) := one_new wr v
        go_wp2_with (at_builtin; refine wpList_append_own _ rfl _ _ 27 rfl w.heap.size 5 i0 (.int .u8 0) 1 1 Tryz.underlying27 hi hz0 hz1 hz2 rfl (by decide) u9 (len + 1 + pre.length) _ rfl (HO.out.alloc _) ⟨wr.heap.size, 0, none⟩ 1 1 [.int .u8 (v : Int)] rfl rfl HN.out (ints_one [(v : Int)]) (by unfold maxLen; omega) (by omega) (by simp; omega) ?_; intro v3 w5 hown hgrow _; refine Hid.out ?_)
        refine hidden ?_
        have HB3 : Hid (Below w.heap.size w w5) := (HB.out.alloc (by omega) _).grown hgrow (by simp; omega) (fun q hq => (HO.out.lt q hq).1)
        have HO3 : Hid (w5.ownsRow w.heap.size 5 1 v3 (zs ++ P).length ((zs ++ P).map (Value.int .u8))) := by
          show World.ownsRow _ _ _ _ _ _ _
          have e : zs ++ P = (zs ++ x :: pre) ++ [(v : Int)] := by rw [HPn.out, ← HG2.out]; simp
          have el : (zs ++ P).length = len + 1 + pre.length + 1 := by rw [e]; simp [hzl]; omega
          rw [el, e, List.map_append]
          exact hown
        clear hown hgrow HO HB HN
        obtain ⟨a', cap', rfl⟩ := shape_of_owns HO3.out
        go_wp2_with fail
        go_ret
        exact ⟨a', cap', rfl, ⟨HO3.out, HR.out⟩, HB3.out⟩

end Go.Proofs.YtbaijmkghgnleaaGreatDoor

namespace Go.Proofs.YtbaijmkghgnleaaGreatDoor
open Go.RowKit
set_option linter.unusedVariables false

set_option maxRecDepth 10000 in
set_option maxHeartbeats 800000 in
theorem specPfx_neg (b off len cap B F : Nat) (nn : Int) (zs : List Int) (w : World) (hs : Seg w (some ⟨b, off, none⟩) len zs) (hl : len ≤ 1099511627776) (h1 : 1 ≤ B) (h8 : B ≤ 8) (hF : F ≤ 255) (hn : nn < 0) :
    Calls Tryz.prog 67 #[.slice (some ⟨b, off, none⟩) len cap, .int .i64 B, .int .i64 F, .int .i64 nn] w fun e w' => ∃ a' cap', e = .returned (.slice a' (zs ++ pfx B F 0).length cap') ∧ Owns w' w.heap.size a' (zs ++ pfx B F 0).length cap' (zs ++ pfx B F 0) ∧ Below w.heap.size w w' := by
  obtain ⟨i0, hi, hz0, hz1, hz2⟩ := info_parts Tryz.info5
  have HS : Hid (Seg w (some ⟨b, off, none⟩) len zs) := hs
  have hzl : zs.length = len := hs.1
  have hS1 : Hid (Seg (w.alloc (.cells #[] 5)) (some ⟨b, off, none⟩) len zs) := hs.below ((Below.refl _ _).alloc (Nat.le_refl _) _)
  have hO1 : Hid ((w.alloc (.cells #[] 5)).ownsRow w.heap.size 5 1 (.slice (some ⟨w.heap.size, 0, none⟩) 0 0) 0 []) := World.ownsRow_lit w #[] 0 (Nat.le_refl _) (Nat.zero_le _) rfl
  clear hs
  have HR : Hid (∀ x ∈ zs ++ pfx B F 0, 0 ≤ x ∧ x ≤ 255) := by
    intro x hx
    rcases List.mem_append.1 hx with hx | hx
    · exact HS.out.2.1 x hx
    · exact pfx_range B F 0 h1 h8 hF x hx
  have hk1 : (1 : Int) ≤ (B : Int) := by omega
  have hk8 : (B : Int) ≤ 8 := by omega
  have hF0 : (0 : Int) ≤ (F : Int) := by omega
  have hF1 : (F : Int) ≤ 255 := by omega
  have HMM : Hid (wrap64 (wrap64 ((2 : Int) ^ B) - 1) = ((2 ^ B - 1 : Nat) : Int)) := mask_form B h1 h8
  have hand := andNot_tab B (by omega) F (by omega)
  have htop := top_small B F h1 h8 hF
  have hps := pow_small B h1 h8
  have HJ : Hid (∀ x : Nat, x < 2 ^ B → bits .or .i64 ((F / 2 ^ B * 2 ^ B : Nat) : Int) (x : Int) = ((F / 2 ^ B * 2 ^ B + x : Nat) : Int)) := fun x hx => or_join _ B x hx (by omega) (by omega)
  have HP : Hid (pfx B F 0 = if 0 < 2 ^ B - 1 then [((F / 2 ^ B * 2 ^ B + 0 : Nat) : Int)] else ((F / 2 ^ B * 2 ^ B + (2 ^ B - 1) : Nat) : Int) :: grp 5 (0 - (2 ^ B - 1))) := rfl
  generalize F / 2 ^ B * 2 ^ B = f at *
  have HJm : Hid (bits .or .i64 (f : Int) ((2 ^ B - 1 : Nat) : Int) = ((f + (2 ^ B - 1) : Nat) : Int)) := HJ.out _ (by omega)
  have HJn : Hid (bits .or .i64 (f : Int) 0 = (f : Int)) := HJ.out 0 (by omega)
  clear HJ
  generalize pfx B F 0 = P at *
  generalize hmm : 2 ^ B - 1 = m at *
  have hm1 : 1 ≤ m ∧ m ≤ 255 := by omega
  clear hps hmm
  have hlt : 0 < m := by omega
  have hor := HJn.out
  have hlti : (0 : Int) < (m : Int) := by omega
  have hfn : ((f + 0 : Nat) : Int) ≤ 255 := by omega
  have HPn : Hid (P = [((f + 0 : Nat) : Int)]) := by show P = _; rw [HP.out, if_pos hlt]
  clear HJm HJn HP
  rw [Nat.add_zero] at HPn hfn
  generalize hxx : (f : Int) = x at *
  have hx0 : 0 ≤ x := by omega
  clear hxx
  go_enter Tryz.func67, Tryz.ntmps67
  go_wp2_with (at_builtin; refine wpList_append_own _ rfl _ _ 27 rfl w.heap.size 5 i0 (.int .u8 0) 1 1 Tryz.underlying27 hi hz0 hz1 hz2 rfl (by decide) (.slice (some ⟨w.heap.size, 0, none⟩) 0 0) 0 [] rfl hO1.out ⟨b, off, none⟩ len cap (zs.map (Value.int .u8)) rfl (by simp [hzl]) (cells_ints hS1.out) (ints_one zs) (by unfold maxLen; omega) (by omega) (by simp) ?_; intro v1 w1 hown1 hgrow1 _; refine Hid.out ?_)
  refine hidden ?_
  have HO : Hid (w1.ownsRow w.heap.size 5 1 v1 len (zs.map (Value.int .u8))) := by
    show World.ownsRow _ _ _ _ _ _ _
    simpa using hown1
  have HB : Hid (Below w.heap.size w w1) := ((Below.refl _ _).alloc (Nat.le_refl _) _).grown hgrow1 (by simp) (by simp [Value.ownBlock])
  have hsz := HB.out.size
  clear hown1 hgrow1 hO1 hS1
  have HN : Hid (∀ j u, [Value.int .u8 x][j]? = some u → (w1.alloc (.cells #[.int .u8 x] 5)).cell? ((⟨w1.heap.size, 0, none⟩ : Addr).add j) = some u) := one_new w1 x
  go_wp2_with fail
  refine (tin_yes _ _ _ _ hk1 hk8).mono ?_
  rintro e w2 ⟨rfl, rfl⟩
  go_wp2_with fail
  refine (tin_yes _ _ _ _ hF0 hF1).mono ?_
  rintro e w3 ⟨rfl, rfl⟩
  have hA : len + 1 ≤ maxLen ∧ (len + 1) * 1 ≤ 140737488355328 := ⟨by unfold maxLen; omega, by omega⟩
  have hBs : w.heap.size ≤ (w3.alloc (.cells #[.int .u8 x] 5)).heap.size := by simp; omega
  have hmask := HMM.out
  go_wp2_with (at_builtin; refine wpList_append_own _ rfl _ _ 27 rfl w.heap.size 5 i0 (.int .u8 0) 1 1 Tryz.underlying27 hi hz0 hz1 hz2 rfl (by decide) v1 len _ rfl (HO.out.alloc _) ⟨w3.heap.size, 0, none⟩ 1 1 [.int .u8 x] rfl rfl HN.out (ints_one [x]) hA.1 hA.2 hBs ?_; intro v2 w4 hown hgrow _; refine Hid.out ?_)
  refine hidden ?_
  clear hmask HMM
  have HB2 : Hid (Below w.heap.size w w4) := (HB.out.alloc (by omega) _).grown hgrow (by simp; omega) (fun q hq => (HO.out.lt q hq).1)
  have HO2 : Hid (w4.ownsRow w.heap.size 5 1 v2 (zs ++ P).length ((zs ++ P).map (Value.int .u8))) := by
    show World.ownsRow _ _ _ _ _ _ _
    rw [HPn.out, List.map_append, List.length_append, hzl]
    exact hown
  clear hown hgrow HO HB HN
  obtain ⟨a', cap', rfl⟩ := shape_of_owns HO2.out
  go_wp2_with fail
  go_ret
  exact ⟨a', cap', rfl, ⟨HO2.out, HR.out⟩, HB2.out⟩

set_option maxRecDepth 10000 in
set_option maxHeartbeats 400000 in
theorem specPfx_no (b off len cap : Nat) (bits first n : Int) (zs : List Int) (w : World) (hs : Seg w (some ⟨b, off, none⟩) len zs) (hl : len ≤ 1099511627776) (h : ¬ (1 ≤ bits ∧ bits ≤ 8 ∧ 0 ≤ first ∧ first ≤ 255)) :
    Calls Tryz.prog 67 #[.slice (some ⟨b, off, none⟩) len cap, .int .i64 bits, .int .i64 first, .int .i64 n] w fun e w' => ∃ a' cap', e = .returned (.slice a' len cap') ∧ Owns w' w.heap.size a' len cap' zs ∧ Below w.heap.size w w' := by
  obtain ⟨i0, hi, hz0, hz1, hz2⟩ := info_parts Tryz.info5
  have HS : Hid (Seg w (some ⟨b, off, none⟩) len zs) := hs
  have hzl : zs.length = len := hs.1
  have hS1 : Hid (Seg (w.alloc (.cells #[] 5)) (some ⟨b, off, none⟩) len zs) := hs.below ((Below.refl _ _).alloc (Nat.le_refl _) _)
  have hO1 : Hid ((w.alloc (.cells #[] 5)).ownsRow w.heap.size 5 1 (.slice (some ⟨w.heap.size, 0, none⟩) 0 0) 0 []) := World.ownsRow_lit w #[] 0 (Nat.le_refl _) (Nat.zero_le _) rfl
  have HN : Hid (¬ (1 ≤ bits ∧ bits ≤ 8 ∧ 0 ≤ first ∧ first ≤ 255)) := h
  clear hs h
  go_enter Tryz.func67, Tryz.ntmps67
  go_wp2_with (at_builtin; refine wpList_append_own _ rfl _ _ 27 rfl w.heap.size 5 i0 (.int .u8 0) 1 1 Tryz.underlying27 hi hz0 hz1 hz2 rfl (by decide) (.slice (some ⟨w.heap.size, 0, none⟩) 0 0) 0 [] rfl hO1.out ⟨b, off, none⟩ len cap (zs.map (Value.int .u8)) rfl (by simp [hzl]) (cells_ints hS1.out) (ints_one zs) (by unfold maxLen; omega) (by omega) (by simp) ?_; intro v1 w1 hown1 hgrow1 _; refine Hid.out ?_)
  refine hidden ?_
  have HO : Hid (w1.ownsRow w.heap.size 5 1 v1 len (zs.map (Value.int .u8))) := by
    show World.ownsRow _ _ _ _ _ _ _
    simpa using hown1
  have HB : Hid (Below w.heap.size w w1) := ((Below.refl _ _).alloc (Nat.le_refl _) _).grown hgrow1 (by simp) (by simp [Value.ownBlock])
  clear hown1 hgrow1 hO1 hS1
  obtain ⟨a', cap', rfl⟩ := shape_of_owns HO.out
  by_cases hb : 1 ≤ bits ∧ bits ≤ 8
  · have HF : Hid (first < 0 ∨ 255 < first) := by
      have := HN.out
      show _ ∨ _
      omega
    obtain ⟨hb1, hb2⟩ := hb
    go_wp2_with fail
    refine (tin_yes _ _ _ _ hb1 hb2).mono ?_
    rintro e w2 ⟨rfl, rfl⟩
    go_wp2_with fail
    refine (tin_no _ _ _ _ HF.out).mono ?_
    rintro e w3 ⟨rfl, rfl⟩
    go_wp2_with fail
    go_ret
    exact ⟨a', cap', rfl, ⟨HO.out, HS.out.2.1⟩, HB.out⟩
  · have HF : Hid (bits < 1 ∨ 8 < bits) := by show _ ∨ _; omega
    clear hb
    go_wp2_with fail
    refine (tin_no _ _ _ _ HF.out).mono ?_
    rintro e w2 ⟨rfl, rfl⟩
    go_wp2_with fail
    go_ret
    exact ⟨a', cap', rfl, ⟨HO.out, HS.out.2.1⟩, HB.out⟩

end Go.Proofs.YtbaijmkghgnleaaGreatDoor

namespace Go.Proofs.YtbaijmkghgnleaaGreatDoor
open Go.RowKit
set_option linter.unusedVariables false

set_option maxRecDepth 10000 in
set_option maxHeartbeats 800000 in
theorem specPfx_top (b off len cap B F M : Nat) (nn : Int) (hM : M = 16777216) (zs : List Int) (w : World) (hs : Seg w (some ⟨b, off, none⟩) len zs) (hl : len ≤ 1099511627776) (h1 : 1 ≤ B) (h8 : B ≤ 8) (hF : F ≤ 255) (hn : 16777216 < nn) :
    Calls Tryz.prog 67 #[.slice (some ⟨b, off, none⟩) len cap, .int .i64 B, .int .i64 F, .int .i64 nn] w fun e w' => ∃ a' cap', e = .returned (.slice a' (zs ++ pfx B F M).length cap') ∧ Owns w' w.heap.size a' (zs ++ pfx B F M).length cap' (zs ++ pfx B F M) ∧ Below w.heap.size w w' := by
  obtain ⟨i0, hi, hz0, hz1, hz2⟩ := info_parts Tryz.info5
  have HS : Hid (Seg w (some ⟨b, off, none⟩) len zs) := hs
  have hzl : zs.length = len := hs.1
  have hS1 : Hid (Seg (w.alloc (.cells #[] 5)) (some ⟨b, off, none⟩) len zs) := hs.below ((Below.refl _ _).alloc (Nat.le_refl _) _)
  have hO1 : Hid ((w.alloc (.cells #[] 5)).ownsRow w.heap.size 5 1 (.slice (some ⟨w.heap.size, 0, none⟩) 0 0) 0 []) := World.ownsRow_lit w #[] 0 (Nat.le_refl _) (Nat.zero_le _) rfl
  clear hs
  have HM : Hid (M = 16777216) := hM
  have HR : Hid (∀ x ∈ zs ++ pfx B F M, 0 ≤ x ∧ x ≤ 255) := by
    intro x hx
    rcases List.mem_append.1 hx with hx | hx
    · exact HS.out.2.1 x hx
    · exact pfx_range B F M h1 h8 hF x hx
  have hk1 : (1 : Int) ≤ (B : Int) := by omega
  have hk8 : (B : Int) ≤ 8 := by omega
  have hF0 : (0 : Int) ≤ (F : Int) := by omega
  have hF1 : (F : Int) ≤ 255 := by omega
  have HMM : Hid (wrap64 (wrap64 ((2 : Int) ^ B) - 1) = ((2 ^ B - 1 : Nat) : Int)) := mask_form B h1 h8
  have hand := andNot_tab B (by omega) F (by omega)
  have htop := top_small B F h1 h8 hF
  have hps := pow_small B h1 h8
  have HJ : Hid (∀ x : Nat, x < 2 ^ B → bits .or .i64 ((F / 2 ^ B * 2 ^ B : Nat) : Int) (x : Int) = ((F / 2 ^ B * 2 ^ B + x : Nat) : Int)) := fun x hx => or_join _ B x hx (by omega) (by omega)
  have HP : Hid (pfx B F M = if M < 2 ^ B - 1 then [((F / 2 ^ B * 2 ^ B + M : Nat) : Int)] else ((F / 2 ^ B * 2 ^ B + (2 ^ B - 1) : Nat) : Int) :: grp 5 (M - (2 ^ B - 1))) := rfl
  generalize F / 2 ^ B * 2 ^ B = f at *
  have HJm : Hid (bits .or .i64 (f : Int) ((2 ^ B - 1 : Nat) : Int) = ((f + (2 ^ B - 1) : Nat) : Int)) := HJ.out _ (by omega)
  clear HJ
  generalize pfx B F M = P at *
  generalize hmm : 2 ^ B - 1 = m at *
  have hm1 : 1 ≤ m ∧ m ≤ 255 := by omega
  clear hps hmm
  have hlt : ¬ M < m := by omega
  have hor := HJm.out
  have hlti : decide ((16777216 : Int) < (m : Int)) = false := by simp; omega
  have hltj : ((16777216 : Int) < (m : Int)) = False := by simp; omega
  have hfn : ((f + m : Nat) : Int) ≤ 255 := by omega
  have HPn : Hid (P = ((f + m : Nat) : Int) :: grp 5 (M - m)) := by show P = _; rw [HP.out, if_neg hlt]
  clear HJm HP
  generalize hxx : ((f + m : Nat) : Int) = x at *
  have hx0 : 0 ≤ x := by omega
  clear hxx
  clear hM
  go_enter Tryz.func67, Tryz.ntmps67
  go_wp2_with (at_builtin; refine wpList_append_own _ rfl _ _ 27 rfl w.heap.size 5 i0 (.int .u8 0) 1 1 Tryz.underlying27 hi hz0 hz1 hz2 rfl (by decide) (.slice (some ⟨w.heap.size, 0, none⟩) 0 0) 0 [] rfl hO1.out ⟨b, off, none⟩ len cap (zs.map (Value.int .u8)) rfl (by simp [hzl]) (cells_ints hS1.out) (ints_one zs) (by unfold maxLen; omega) (by omega) (by simp) ?_; intro v1 w1 hown1 hgrow1 _; refine Hid.out ?_)
  refine hidden ?_
  have HO : Hid (w1.ownsRow w.heap.size 5 1 v1 len (zs.map (Value.int .u8))) := by
    show World.ownsRow _ _ _ _ _ _ _
    simpa using hown1
  have HB : Hid (Below w.heap.size w w1) := ((Below.refl _ _).alloc (Nat.le_refl _) _).grown hgrow1 (by simp) (by simp [Value.ownBlock])
  have hsz := HB.out.size
  clear hown1 hgrow1 hO1 hS1
  have HN : Hid (∀ j u, [Value.int .u8 x][j]? = some u → (w1.alloc (.cells #[.int .u8 x] 5)).cell? ((⟨w1.heap.size, 0, none⟩ : Addr).add j) = some u) := one_new w1 x
  go_wp2_with fail
  refine (tin_yes _ _ _ _ hk1 hk8).mono ?_
  rintro e w2 ⟨rfl, rfl⟩
  go_wp2_with fail
  refine (tin_yes _ _ _ _ hF0 hF1).mono ?_
  rintro e w3 ⟨rfl, rfl⟩
  have hA : len + 1 ≤ maxLen ∧ (len + 1) * 1 ≤ 140737488355328 := ⟨by unfold maxLen; omega, by omega⟩
  have hBs : w.heap.size ≤ (w3.alloc (.cells #[.int .u8 x] 5)).heap.size := by simp; omega
  have hmask := HMM.out
  go_wp2_with (at_builtin; refine wpList_append_own _ rfl _ _ 27 rfl w.heap.size 5 i0 (.int .u8 0) 1 1 Tryz.underlying27 hi hz0 hz1 hz2 rfl (by decide) v1 len _ rfl (HO.out.alloc _) ⟨w3.heap.size, 0, none⟩ 1 1 [.int .u8 x] rfl rfl HN.out (ints_one [x]) hA.1 hA.2 hBs ?_; intro v2 w4 hown hgrow _; refine Hid.out ?_)
  refine hidden ?_
  clear hmask HMM
  have HB2 : Hid (Below w.heap.size w w4) := (HB.out.alloc (by omega) _).grown hgrow (by simp; omega) (fun q hq => (HO.out.lt q hq).1)
  have HO2 : Hid (w4.ownsRow w.heap.size 5 1 v2 (len + 1 + 0) ((zs ++ x :: []).map (Value.int .u8))) := by
    show World.ownsRow _ _ _ _ _ _ _
    rw [List.map_append]
    exact hown
  clear hown hgrow HO HB HN
  obtain ⟨v0, hv0⟩ : ∃ v0, M - m = v0 := ⟨_, rfl⟩
  have hnv : (16777216 : Int) - (m : Int) = (v0 : Int) := by have := HM.out; omega
  rw [hv0] at HPn
  have hv0b : v0 ≤ 16777216 := by have := HM.out; omega
  clear hv0 hor hand hA hBs hltj
  go_wp2_with fail
  clear hnv
  go_loopw [3, 9] (fun nn vv wr => ∃ (k v : Nat) (pre : List Int), 1 ≤ k ∧ v ≤ 16777216 ∧ nn = .int .i64 v ∧ Hid (v < 128 ^ k) ∧ Hid (pre ++ grp k v = grp 5 v0) ∧ pre.length + k = 5 ∧ Hid (wr.ownsRow w.heap.size 5 1 vv (len + 1 + pre.length) ((zs ++ x :: pre).map (Value.int .u8))) ∧ Hid (Below w.heap.size w wr)) (fun nn _ _ => (intOf nn).toNat)
  case atStart => exact ⟨5, v0, [], by omega, hv0b, rfl, by show v0 < 128 ^ 5; omega, rfl, rfl, HO2, HB2⟩
  case round =>
    clear HO2 HB2
    obtain ⟨k, v, pre, hk, hv, rfl, HV, HG, hpk, HO, HB⟩ := hrel
    obtain ⟨k', rfl⟩ : ∃ k', k = k' + 1 := ⟨k - 1, by omega⟩
    have hsz := HB.out.size
    have hvi : (v : Int) ≤ 16777216 := by omega
    by_cases hbig : 127 < v
    · have hgf := group_form v hv
      have HG2 : Hid ((pre ++ [((v % 128 + 128 : Nat) : Int)]) ++ grp k' (v / 128) = grp 5 v0) := by
        show _ = _
        rw [← HG.out, grp, if_pos hbig, List.append_assoc]
        rfl
      have HV2 : Hid (v / 128 < 128 ^ k') := by
        show _ < _
        have := HV.out
        rw [Nat.pow_succ] at this
        omega
      have hk2 : 1 ≤ k' := by
        have := HV2.out
        by_cases h0 : k' = 0
        · subst h0; simp at this; omega
        · omega
      generalize hyy : ((v % 128 + 128 : Nat) : Int) = y at *
      have hy0 : 0 ≤ y := by omega
      have hy1 : y ≤ 255 := by omega
      clear hyy
      have HN : Hid (∀ j u, [Value.int .u8 y][j]? = some u → (wr.alloc (.cells #[.int .u8 y] 5)).cell? ((⟨wr.heap.size, 0, none⟩ : Addr).add j) = some u) := one_new wr y
      go_wp2_with (at_builtin; refine wpList_append_own _ rfl _ _ 27 rfl w.heap.size 5 i0 (.int .u8 0) 1 1 Tryz.underlying27 hi hz0 hz1 hz2 rfl (by decide) u9 (len + 1 + pre.length) _ rfl (HO.out.alloc _) ⟨wr.heap.size, 0, none⟩ 1 1 [.int .u8 y] rfl rfl HN.out (ints_one [y]) (by unfold maxLen; omega) (by omega) (by simp; omega) ?_; intro v3 w5 hown hgrow _; refine Hid.out ?_)
      refine hidden ?_
      have HB3 : Hid (Below w.heap.size w w5) := (HB.out.alloc (by omega) _).grown hgrow (by simp; omega) (fun q hq => (HO.out.lt q hq).1)
      have HO3 : Hid (w5.ownsRow w.heap.size 5 1 v3 (len + 1 + (pre ++ [y]).length) ((zs ++ x :: (pre ++ [y])).map (Value.int .u8))) := by
        show World.ownsRow _ _ _ _ _ _ _
        have e : zs ++ x :: (pre ++ [y]) = (zs ++ x :: pre) ++ [y] := by simp
        rw [e, List.map_append, List.length_append, ← Nat.add_assoc]
        exact hown
      clear hown hgrow HO HB HN hgf
      go_wp2_with fail
      go_roundw
      case rel => exact ⟨k', v / 128, pre ++ [y], hk2, by omega, by go_num, HV2, HG2, by simp; omega, HO3, HB3⟩
      case measure => simp [intOf]; omega
    · have hbi : ¬ (127 : Int) < (v : Int) := by omega
      have HG2 : Hid (pre ++ [(v : Int)] = grp 5 v0) := by
        show _ = _
        rw [← HG.out, grp, if_neg hbig]
      clear hbig
      have HN : Hid (∀ j u, [Value.int .u8 (v : Int)][j]? = some u → (wr.alloc (.cells #[.int .u8 (v : Int)] 5)).cell? ((⟨wr.heap.size, 0, none⟩ : Addr).add j) = some u) := one_new wr v
      go_wp2_with (at_builtin; refine wpList_append_own _ rfl _ _ 27 rfl w.heap.size 5 i0 (.int .u8 0) 1 1 Tryz.underlying27 hi hz0 hz1 hz2 rfl (by decide) u9 (len + 1 + pre.length) _ rfl (HO.out.alloc _) ⟨wr.heap.size, 0, none⟩ 1 1 [.int .u8 (v : Int)] rfl rfl HN.out (ints_one [(v : Int)]) (by unfold maxLen; omega) (by omega) (by simp; omega) ?_; intro v3 w5 hown hgrow _; refine Hid.out ?_)
      refine hidden ?_
      have HB3 : Hid (Below w.heap.size w w5) := (HB.out.alloc (by omega) _).grown hgrow (by simp; omega) (fun q hq => (HO.out.lt q hq).1)
      have HO3 : Hid (w5.ownsRow w.heap.size 5 1 v3 (zs ++ P).length ((zs ++ P).map (Value.int .u8))) := by
        show World.ownsRow _ _ _ _ _ _ _
        have e : zs ++ P = (zs ++ x :: pre) ++ [(v : Int)] := by rw [HPn.out, ← HG2.out]; simp
        have el : (zs ++ P).length = len + 1 + pre.length + 1 := by rw [e]; simp [hzl]; omega
        rw [el, e, List.map_append]
        exact hown
      clear hown hgrow HO HB HN
      obtain ⟨a', cap', rfl⟩ := shape_of_owns HO3.out
      go_wp2_with fail
      go_ret
      exact ⟨a', cap', rfl, ⟨HO3.out, HR.out⟩, HB3.out⟩

end Go.Proofs.YtbaijmkghgnleaaGreatDoor

namespace Go.Proofs.YtbaijmkghgnleaaGreatDoor
open Go.RowKit
set_option linter.unusedVariables false

theorem specPfx_any (b off len cap : Nat) (bits first n : Int) (zs : List Int) (w : World) (hs : Seg w (some ⟨b, off, none⟩) len zs) (hl : len ≤ 1099511627776) :
    Calls Tryz.prog 67 #[.slice (some ⟨b, off, none⟩) len cap, .int .i64 bits, .int .i64 first, .int .i64 n] w fun e w' => ∃ a' cap', e = .returned (.slice a' (putPfx zs bits first n).length cap') ∧ Owns w' w.heap.size a' (putPfx zs bits first n).length cap' (putPfx zs bits first n) ∧ Below w.heap.size w w' := by
  by_cases h : 1 ≤ bits ∧ bits ≤ 8 ∧ 0 ≤ first ∧ first ≤ 255
  · obtain ⟨B, rfl⟩ := Int.eq_ofNat_of_zero_le (show 0 ≤ bits by omega)
    obtain ⟨F, rfl⟩ := Int.eq_ofNat_of_zero_le (show 0 ≤ first by omega)
    have e : putPfx zs B F n = zs ++ pfx B F (min n 16777216).toNat := by rw [putPfx, if_pos h, Int.toNat_natCast, Int.toNat_natCast]
    rw [e]
    by_cases h0 : n < 0
    · rw [show (min n 16777216).toNat = 0 by omega]
      exact specPfx_neg b off len cap B F n zs w hs hl (by omega) (by omega) (by omega) h0
    · by_cases h2 : 16777216 < n
      · rw [show (min n 16777216).toNat = 16777216 by omega]
        exact specPfx_top b off len cap B F 16777216 n rfl zs w hs hl (by omega) (by omega) (by omega) h2
      · obtain ⟨M, rfl⟩ := Int.eq_ofNat_of_zero_le (show 0 ≤ n by omega)
        rw [show (min (M : Int) 16777216).toNat = M by omega]
        exact specPfx_yes b off len cap B F M zs w hs hl (by omega) (by omega) (by omega) (by omega)
  · have e : putPfx zs bits first n = zs := by rw [putPfx, if_neg h, List.append_nil]
    rw [e, hs.1]
    exact specPfx_no b off len cap bits first n zs w hs hl h

end Go.Proofs.YtbaijmkghgnleaaGreatDoor
