/- The specification's table without its oldest, as far as must be. The specification's field that is put into a table. The specification's TableOk. The specification's Resize. The specification's reader of a block: its state, and a size that is told. -/
import Derived.Test.YtckpacifimpkgacGreatM08
import Derived.Test.YtckpacifimpkgacGreatM22
import Derived.Deep.RegionWith
import Derived.Laws.Tables
import Derived.Test.YtckpacifimpkgacGreatM09
import Derived.Shelf.Abstract
import Derived.Test.YtckpacifimpkgacGreatM20
import Derived.Deep.QuietTactic
import Derived.BigQuiet
import Derived.OneCell
import Derived.Test.YtckpacifimpkgacGreatM17
import Derived.Deep.RegionHeld3
namespace Go.Proofs.YtckpacifimpkgacGreat
open Go.RowKit
set_option linter.unusedVariables false

/-- The length of the slice in the second cell of a variable. -/
def lenIn (b : Nat) (W : World) : Nat := match W.cell? ⟨b, 1, none⟩ with | some (.slice _ n _) => n | _ => 0

set_option maxRecDepth 10000 in
set_option maxHeartbeats 1600000 in
theorem specFit_any (m : Int) (a : Option Addr) (len ca : Nat) (xs : List Fld) (w : World) (hx : Flds w a len xs) (hm : 0 ≤ m) (hm2 : m ≤ 4096) (hc : len ≤ ca) (hl : len + fldBytes xs ≤ 2097152) :
    Calls Tryz.prog 51 #[.agg #[.int .i64 m, .slice a len ca]] w fun e w' => ∃ k, e = .returned (.agg #[.int .i64 m, .slice a k ca]) ∧ FitN m.toNat xs k ∧ Below w.heap.size w w' := by
  have HX : Hid (Flds w a len xs) := hx
  have hlen := hx.1
  clear hx
  go_enter Tryz.func51, Tryz.ntmps51
  go_wp2_with fail
  obtain ⟨w2, hw2⟩ : ∃ w2, (w.alloc (.cells #[.int .i64 m, .slice a len ca] 26)).alloc (.cells #[.int .i64 0, .slice none 0 0] 26) = w2 := ⟨_, rfl⟩
  have hq1 : w2.heap[w.heap.size]? = some (.cells #[.int .i64 m, .slice a len ca] 26 (0, 0)) := by
    rw [← hw2]
    have h1 := heap_alloc_new w (.cells #[.int .i64 m, .slice a len ca] 26)
    have hlt : w.heap.size < (w.alloc (.cells #[.int .i64 m, .slice a len ca] 26)).heap.size := by simp
    exact (((Below.refl _ _).alloc (Nat.le_refl _) (.cells #[.int .i64 0, .slice none 0 0] 26)).block _ hlt).trans h1
  have hq2 : w2.heap[w.heap.size + 1]? = some (.cells #[.int .i64 0, .slice none 0 0] 26 (0, 0)) := by
    rw [← hw2]
    have h1 := heap_alloc_new (w.alloc (.cells #[.int .i64 m, .slice a len ca] 26)) (.cells #[.int .i64 0, .slice none 0 0] 26)
    simpa using h1
  have HB2 : Hid (Below w.heap.size w w2) := by show Below _ _ _; rw [← hw2]; exact ((Below.refl _ _).alloc (Nat.le_refl _) _).alloc (by simp) _
  have HQ1 : Hid (w2.heap[w.heap.size]? = some (.cells #[.int .i64 m, .slice a len ca] 26 (0, 0))) := hq1
  have HQ2 : Hid (w2.heap[w.heap.size + 1]? = some (.cells #[.int .i64 0, .slice none 0 0] 26 (0, 0))) := hq2
  rw [hw2]
  clear hw2 hq1 hq2
  obtain ⟨h, hh⟩ : ∃ h, w.heap.size = h := ⟨_, rfl⟩
  rw [hh] at HB2 HQ1 HQ2 ⊢
  go_loopw [] (fun wr => ∃ k, k ≤ len ∧ Hid (k = len ∨ m.toNat < szL (xs.take (k + 1))) ∧ Hid (wr.heap[h]? = some (.cells #[.int .i64 m, .slice a k ca] 26 (0, 0))) ∧ Hid (wr.heap[h + 1]? = some (.cells #[.int .i64 0, .slice none 0 0] 26 (0, 0))) ∧ Hid (Below h w wr)) (fun wr => lenIn h wr)
  case atStart => exact ⟨len, Nat.le_refl _, .inl rfl, HQ1, HQ2, HB2⟩
  case round =>
    clear HQ1 HQ2 HB2
    obtain ⟨k, hk, HE, HQ1, HQ2, HB⟩ := hrel
    obtain ⟨c0, c1, f0, f1⟩ := two_cells HQ1.out
    have HC1 : Hid (wr.cell? ⟨h, 1, none⟩ = some (.slice a k ca)) := c1
    have HFk : Hid (Flds wr a k (xs.take k)) := (HX.out.below (by rw [hh]; exact HB.out)).take k hk
    have hsz : 32 * k + fldBytes (xs.take k) = szL (xs.take k) := by
      unfold szL
      rw [List.length_take, Nat.min_eq_left (by omega)]
    have hfb := fldBytes_take xs k
    have hlk : k + fldBytes (xs.take k) ≤ 2097152 := by omega
    have HSz : Hid (32 * k + fldBytes (xs.take k) = szL (xs.take k)) := hsz
    have hsm : 32 * (k : Int) + (fldBytes (xs.take k) : Int) ≤ 70000000 := by omega
    have HSp : Hid (∀ W, Flds W a k (xs.take k) → Calls Tryz.prog 45 #[.agg #[.int .i64 m, .slice a k ca]] W fun e w' => e = .returned (.int .i64 (32 * (k : Int) + (fldBytes (xs.take k) : Int))) ∧ Below W.heap.size W w') := fun W hW => specSize_any m a k ca (xs.take k) W hW hlk
    generalize fldBytes (xs.take k) = fb at *
    clear hsz hfb
    have hh1 : h < wr.heap.size := (Array.getElem?_eq_some_iff.1 HQ1.out).1
    have HT : Hid (∀ W : World, Below wr.heap.size wr W → W.heap[h]? = some (.cells #[.int .i64 m, .slice a k ca] 26 (0, 0)) ∧ W.heap[h + 1]? = some (.cells #[.int .i64 0, .slice none 0 0] 26 (0, 0)) ∧ Below h w W) := fun W hW =>
      ⟨(hW.block h hh1).trans HQ1.out, (hW.block (h + 1) (Array.getElem?_eq_some_iff.1 HQ2.out).1).trans HQ2.out, HB.out.trans (hW.mono (by omega))⟩
    go_wp2_with fail
    go_region_with (first
      | (go_at_call 45; refine (HSp.out _ (HFk.out.below (Below.refl _ _).drew)).mono ?_; rintro e x2 ⟨rfl, hb2⟩; have hb2' : Below wr.heap.size wr x2 := (Below.refl wr.heap.size wr).drew.trans (hb2.mono (Nat.le_refl _)); obtain ⟨k0, k1, k2, k3⟩ := two_cells (HT.out _ hb2').1))
    all_goals
      obtain ⟨t1, t2, t3⟩ := HT.out _ hb2'
      have HQ1' : Hid (x2.heap[h]? = some (.cells #[.int .i64 m, .slice a k ca] 26 (0, 0))) := t1
      have HQ2' : Hid (x2.heap[h + 1]? = some (.cells #[.int .i64 0, .slice none 0 0] 26 (0, 0))) := t2
      have HB' : Hid (Below h w x2) := t3
      clear t1 t2 t3 hb2 hb2' c0 c1 f0 f1
      by_cases hgt : m < 32 * (k : Int) + (fb : Int)
      · obtain ⟨j, rfl⟩ : ∃ j, k = j + 1 := by
          refine ⟨k - 1, ?_⟩
          rcases Nat.eq_zero_or_pos k with hk0 | hk0
          · exfalso
            subst hk0
            have := HSz.out
            rw [List.take_zero, szL_nil] at this
            omega
          · omega
        have HE2 : Hid (j = len ∨ m.toNat < szL (xs.take (j + 1))) := by
          show _ ∨ _
          right
          have := HSz.out
          omega
        have hj : ((j + 1 : Nat) : Int) - 1 = (j : Int) := by omega
        have hji : (j : Int) ≤ (ca : Int) := by omega
        go_wp2_with fail
        go_roundw
        case rel => exact ⟨j, by omega, HE2, two_set1 HQ1'.out _, (set_block_other _ _ _ _ _ (by omega)).trans HQ2'.out, HB'.out.setCell (p := ⟨h, 1, none⟩) (Nat.le_refl _) _⟩
        case measure =>
          have e1 : lenIn h wr = j + 1 := by simp [lenIn, HC1.out]
          have e2 := (two_cells (two_set1 HQ1'.out (.slice a j ca))).2.1
          have e3 : lenIn h (x2.setCell ⟨h, 1, none⟩ (.slice a j ca)) = j := by simp [lenIn, e2]
          omega
      · have HFit : Hid (FitN m.toNat xs k) := by
          refine ⟨by omega, ?_, ?_⟩
          · have := HSz.out
            omega
          · rw [hlen]
            exact HE.out
        obtain ⟨g0, g1, g2, g3⟩ := two_cells HQ2'.out
        go_wp2_with fail
        refine bodyPost_ret (v := .agg #[.int .i64 m, .slice a k ca]) (by simp [results, Tryz.f51, go_sem, g0, g1]) rfl ?_
        refine ⟨k, rfl, HFit.out, ?_⟩
        first
          | exact (HB'.out.setCell (p := ⟨h + 1, 0, none⟩) (by dsimp only; omega) _).setCell (p := ⟨h + 1, 1, none⟩) (by dsimp only; omega) _
          | (rw [hh]; exact (HB'.out.setCell (p := ⟨h + 1, 0, none⟩) (by dsimp only; omega) _).setCell (p := ⟨h + 1, 1, none⟩) (by dsimp only; omega) _)

end Go.Proofs.YtckpacifimpkgacGreat

namespace Go.Proofs.YtckpacifimpkgacGreat
open Go.RowKit
set_option linter.unusedVariables false

set_option maxRecDepth 10000 in
set_option maxHeartbeats 6400000 in
theorem specAdd4_any (m : Int) (a : Option Addr) (len ca : Nat) (xs : List Fld) (x y : ByteArray) (w : World) (hx : Flds w a len xs) (hm : 0 ≤ m) (hm2 : m ≤ 4096) (hf : x.size ≤ maxLen ∧ y.size ≤ maxLen) (hl : 1 + len + (x.size + y.size) + fldBytes xs ≤ 2097152) :
    Calls Tryz.prog 31 #[.agg #[.int .i64 m, .slice a len ca], .agg #[.string x, .string y]] w fun e w' => ∃ v k, e = .returned (.agg #[.int .i64 m, v]) ∧ FitN m.toNat ((x, y) :: xs) k ∧ OwnF w' w.heap.size v k (((x, y) :: xs).take k) ∧ Below w.heap.size w w' := by
  obtain ⟨i0, hi, hz0, hz1, hz2⟩ := info_parts info_field
  have HX : Hid (Flds w a len xs) := hx
  have hlen := hx.1
  have HNil : Hid (a = none → len = 0) := fun h => hx.none_nil h
  clear hx
  have HA : Hid (1 + len ≤ maxLen ∧ (1 + len) * 32 ≤ 140737488355328 ∧ (fieldCells xs).length = len * 2) := ⟨by unfold maxLen; omega, by omega, by rw [fieldCells_len]; omega⟩
  have HFl : Hid (∀ f ∈ (x, y) :: xs, f.1.size ≤ maxLen ∧ f.2.size ≤ maxLen) := by
    intro f hf'
    rcases List.mem_cons.1 hf' with rfl | h
    · exact hf
    · exact HX.out.2.1 f h
  have HSz : Hid (1 + len + fldBytes ((x, y) :: xs) ≤ 2097152) := by
    show _ ≤ _
    simp [fldBytes] at hl ⊢
    omega
  clear hf hl
  go_enter Tryz.func31, Tryz.ntmps31
  go_wp2_with fail
  obtain ⟨w3, hw3⟩ : ∃ w3, ((w.alloc (.cells #[.int .i64 m, .slice a len ca] 26)).alloc (.cells #[.string x, .string y] 43)).alloc (.cells #[.int .i64 0, .slice none 0 0] 26) = w3 := ⟨_, rfl⟩
  have hq1 : w3.heap[w.heap.size]? = some (.cells #[.int .i64 m, .slice a len ca] 26 (0, 0)) := by
    rw [← hw3]
    exact kept_alloc (kept_alloc (heap_alloc_new w _) _) _
  have hq2 : w3.heap[w.heap.size + 1]? = some (.cells #[.string x, .string y] 43 (0, 0)) := by
    rw [← hw3]
    have h1 := kept_alloc (heap_alloc_new (w.alloc (.cells #[.int .i64 m, .slice a len ca] 26)) (.cells #[.string x, .string y] 43)) (.cells #[.int .i64 0, .slice none 0 0] 26)
    rw [World.size_alloc] at h1
    exact h1
  have hq3 : w3.heap[w.heap.size + 1 + 1]? = some (.cells #[.int .i64 0, .slice none 0 0] 26 (0, 0)) := by
    rw [← hw3]
    have h1 := heap_alloc_new ((w.alloc (.cells #[.int .i64 m, .slice a len ca] 26)).alloc (.cells #[.string x, .string y] 43)) (.cells #[.int .i64 0, .slice none 0 0] 26)
    rw [World.size_alloc, World.size_alloc] at h1
    exact h1
  have HB3 : Hid (Below w.heap.size w w3) := by show Below _ _ _; rw [← hw3]; exact (((Below.refl _ _).alloc (Nat.le_refl _) _).alloc (by simp) _).alloc (by simp; omega) _
  have HW3 : Hid (w3.heap.size = w.heap.size + 3) := by show _ = _; rw [← hw3]; simp
  rw [hw3]
  clear hw3
  obtain ⟨W4, hW4⟩ : ∃ W4, w3.alloc (.cells #[.string x, .string y] 43) = W4 := ⟨_, rfl⟩
  have HO : Hid (W4.drew.ownsRow w3.heap.size 43 2 (.slice (some ⟨w3.heap.size, 0, none⟩) 1 1) 1 (fieldCells [(x, y)])) := by
    show World.ownsRow _ _ _ _ _ _ _
    rw [← hW4]
    exact World.ownsRow_lit w3 #[.string x, .string y] 1 (Nat.le_refl _) (by unfold maxLen; omega) rfl
  have HB4 : Hid (Below w3.heap.size w3 W4.drew) := by show Below _ _ _; rw [← hW4]; exact below_drewN ((Below.refl _ _).alloc (Nat.le_refl _) _) 1
  have HF4 : Hid (Flds W4.drew a len xs) := HX.out.below (HB3.out.trans (HB4.out.mono HB3.out.size))
  have HS4 : Hid (w3.heap.size < W4.drew.heap.size) := by show _ < _; rw [← hW4]; simp
  have hu1 : W4.heap[w.heap.size]? = some (.cells #[.int .i64 m, .slice a len ca] 26 (0, 0)) := by rw [← hW4]; exact kept_alloc hq1 _
  have hu2 : W4.heap[w.heap.size + 1]? = some (.cells #[.string x, .string y] 43 (0, 0)) := by rw [← hW4]; exact kept_alloc hq2 _
  have hu3 : W4.heap[w.heap.size + 1 + 1]? = some (.cells #[.int .i64 0, .slice none 0 0] 26 (0, 0)) := by rw [← hW4]; exact kept_alloc hq3 _
  have HU : Hid (∀ W, W4.drew.grownBy W (some w3.heap.size) → W.heap[w.heap.size]? = some (.cells #[.int .i64 m, .slice a len ca] 26 (0, 0)) ∧ W.heap[w.heap.size + 1 + 1]? = some (.cells #[.int .i64 0, .slice none 0 0] 26 (0, 0)) ∧ Below w.heap.size w W ∧ w3.heap.size < W.heap.size) := by
    intro W hg
    have h2 := HW3.out
    have h3 := HS4.out
    exact ⟨(hg.block _ (by omega) (by intro e; injection e with e; omega)).trans hu1, (hg.block _ (by omega) (by intro e; injection e with e; omega)).trans hu3, (HB3.out.trans (HB4.out.mono HB3.out.size)).grown hg (by omega) (fun k hk => by injection hk with hk; omega), Nat.lt_of_lt_of_le h3 hg.size⟩
  have HEnt : Hid (∀ args w, (callFunc 51 args).run Tryz.prog w = .ok (.enter 51 args) w) := Go.Proofs.enters_of Tryz.func51 (by kernel_rfl) rfl
  have HFC : Hid (∀ (a5 : Option Addr) (cap5 : Nat) (w5 : World), w5.ownsRow w3.heap.size 43 2 (.slice a5 (1 + len) cap5) (1 + len) (fieldCells [(x, y)] ++ fieldCells xs) → Calls Tryz.prog 51 #[.agg #[.int .i64 m, .slice a5 (1 + len) cap5]] w5 fun e w' => ∃ k, e = .returned (.agg #[.int .i64 m, .slice a5 k cap5]) ∧ FitN m.toNat ((x, y) :: xs) k ∧ Below w5.heap.size w5 w') := by
    intro a5 cap5 w5 ho
    have hof : OwnF w5 w3.heap.size (.slice a5 (1 + len) cap5) (1 + len) ((x, y) :: xs) := ⟨ho, HFl.out⟩
    exact specFit_any m a5 (1 + len) cap5 ((x, y) :: xs) w5 hof.flds hm hm2 (own_cap ho) HSz.out
  obtain ⟨c0, c1, _, _⟩ := two_cells hq1
  obtain ⟨c2, c3, _, _⟩ := two_cells hq2
  obtain ⟨d0, d1, _, _⟩ := two_cells hu1
  obtain ⟨d2, d3, _, _⟩ := two_cells hu2
  clear hq1 hq2 hq3 hu1 hu2 hu3
  have HW : Hid (w3.alloc (.cells #[.string x, .string y] 43) = W4) := hW4
  go_region_law (first
    | (refine step_append_src rfl (.tmp 8) (.tmp 10) 24 rfl w3.heap.size 43 i0 (.agg #[.string ⟨#[]⟩, .string ⟨#[]⟩]) 2 32 Tryz.underlying24 hi hz0 hz1 hz2 rfl (by decide) w3.heap.size 1 1 (fieldCells [(x, y)]) rfl HO.out a len ca (fieldCells xs) rfl HNil.out HA.out.2.2 HF4.out.cells (fieldCells_one xs) HA.out.1 HA.out.2.1 (Nat.le_of_lt HS4.out) ?_; intro v5 w5 hown hgrow; obtain ⟨a5, cap5, rfl⟩ := own_shape hown; obtain ⟨e0, e1, _, _⟩ := two_cells (HU.out w5 hgrow).1)
    | (refine step_call_any rfl 51 (.tmp 12) 26 rfl HEnt.out (.agg #[.int .i64 m, .slice a5 (1 + len) cap5]) rfl _ (HFC.out a5 cap5 w5 hown) ?_; rintro e w6 ⟨k, rfl, hfit, hb6⟩; refine ⟨_, rfl, ?_⟩; obtain ⟨g0, g1, g2, g3⟩ := two_cells ((hb6.block _ (Array.getElem?_eq_some_iff.1 (HU.out w5 hgrow).2.1).1).trans (HU.out w5 hgrow).2.1)))
  all_goals
    obtain ⟨t1, t2, t3, t4⟩ := HU.out w5 hgrow
    have h3 := HW3.out
    have hne := own_some hown (by omega)
    have hof : OwnF w6 w3.heap.size (.slice a5 (1 + len) cap5) (1 + len) ((x, y) :: xs) := ⟨own_stays hown hb6, HFl.out⟩
    have hfk := hfit.1
    rw [List.length_cons, hlen] at hfk
    have hok := hof.take k (by omega) hne
    have HO6 : Hid (OwnF ((w6.setCell ⟨w.heap.size + 1 + 1, 0, none⟩ (.int .i64 m)).setCell ⟨w.heap.size + 1 + 1, 1, none⟩ (.slice a5 k cap5)) w.heap.size (.slice a5 k cap5) k (((x, y) :: xs).take k)) :=
      ⟨own_down (ownsRow_setCell_below (ownsRow_setCell_below hok.1 (a := ⟨w.heap.size + 1 + 1, 0, none⟩) (by dsimp only; omega) _) (a := ⟨w.heap.size + 1 + 1, 1, none⟩) (by dsimp only; omega) _) (by omega), hok.2⟩
    have HB6 : Hid (Below w.heap.size w ((w6.setCell ⟨w.heap.size + 1 + 1, 0, none⟩ (.int .i64 m)).setCell ⟨w.heap.size + 1 + 1, 1, none⟩ (.slice a5 k cap5))) :=
      ((t3.trans (hb6.mono t3.size)).setCell (p := ⟨w.heap.size + 1 + 1, 0, none⟩) (by dsimp only; omega) _).setCell (p := ⟨w.heap.size + 1 + 1, 1, none⟩) (by dsimp only; omega) _
    have HFit : Hid (FitN m.toNat ((x, y) :: xs) k) := hfit
    clear t1 t2 t3 t4 h3 hne hof hfk hok hown hgrow hb6 hfit e0 e1
    go_wp2
    refine bodyPost_ret (v := .agg #[.int .i64 m, .slice a5 k cap5]) (by simp [results, Tryz.f31, go_sem, g0, g1]) rfl ?_
    exact ⟨_, k, rfl, HFit.out, HO6.out, HB6.out⟩

end Go.Proofs.YtckpacifimpkgacGreat

namespace Go.Proofs.YtckpacifimpkgacGreat
open Go.RowKit
set_option linter.unusedVariables false

set_option maxRecDepth 10000 in
set_option maxHeartbeats 1600000 in
theorem specOk_any (m : Int) (a : Option Addr) (len ca : Nat) (xs : List Fld) (w : World) (hx : Flds w a len xs) (hl : len + fldBytes xs ≤ 2097152) :
    Calls Tryz.prog 26 #[.agg #[.int .i64 m, .slice a len ca]] w fun e w' => e = .returned (.bool (okT m xs)) ∧ Below w.heap.size w w' := by
  have HX : Hid (Flds w a len xs) := hx
  have hlen := hx.1
  clear hx
  obtain ⟨w1, hw1⟩ : ∃ w1, w.alloc (.cells #[.int .i64 m, .slice a len ca] 26) = w1 := ⟨_, rfl⟩
  have hbx : w1.heap[w.heap.size]? = some (.cells #[.int .i64 m, .slice a len ca] 26 (0, 0)) := by rw [← hw1]; exact heap_alloc_new w _
  have HB1 : Hid (Below w.heap.size w w1) := by show Below _ _ _; rw [← hw1]; exact (Below.refl _ _).alloc (Nat.le_refl _) _
  have hs1 : w.heap.size < w1.heap.size := by rw [← hw1]; simp
  have c0 : w1.cell? ⟨w.heap.size, 0, none⟩ = some (.int .i64 m) := by rw [cell_of_row _ _ _ _ _ _ hbx]; rfl
  have c1 : w1.cell? ⟨w.heap.size, 1, none⟩ = some (.slice a len ca) := by rw [cell_of_row _ _ _ _ _ _ hbx]; rfl
  have HT : Hid (∀ W : World, Below w1.heap.size w1 W → Flds W a len xs ∧ Below w.heap.size w W ∧ W.cell? ⟨w.heap.size, 0, none⟩ = some (.int .i64 m) ∧ W.cell? ⟨w.heap.size, 1, none⟩ = some (.slice a len ca)) := fun W hW =>
    have hb := HB1.out.trans (hW.mono HB1.out.size)
    ⟨HX.out.below hb, hb, (hW.cell (p := ⟨_, _, none⟩) hs1).trans c0, (hW.cell (p := ⟨_, _, none⟩) hs1).trans c1⟩
  clear hbx
  by_cases hin : 0 ≤ m ∧ m ≤ 4096
  · have hans : okT m xs = decide ((32 * len + fldBytes xs : Int) ≤ m) := by
      unfold okT szL
      rw [hlen]
      simp [hin.1, hin.2]
    have HAns : Hid (okT m xs = decide ((32 * len + fldBytes xs : Int) ≤ m)) := hans
    obtain ⟨h0, h1⟩ := hin
    clear hans
    go_enter Tryz.func26, Tryz.ntmps26
    go_wp2_with fail
    go_region_with (first
      | (go_at_call 27; refine (tin_yes _ _ _ _ h0 h1).mono ?_; rintro e x1 ⟨rfl, rfl⟩)
      | (go_at_call 45; refine (specSize_any m a len ca xs _ (HT.out _ (Below.refl _ _).drew).1 hl).mono ?_; rintro e x2 ⟨rfl, hb2⟩; have hb2' : Below w1.heap.size w1 x2 := (Below.refl w1.heap.size w1).drew.trans (hb2.mono (Nat.le_refl _)); have k0 := (HT.out _ hb2').2.2.1))
    all_goals
      have HB2 : Hid (Below w.heap.size w x2) := (HT.out _ hb2').2.1
      clear hb2 hb2' k0
      go_wp2
      go_ret
      exact ⟨ret_bool HAns.out.symm, HB2.out⟩
  · have hans : okT m xs = false := by
      unfold okT
      simp
      omega
    have HAns : Hid (okT m xs = false) := hans
    have HIn : Hid (m < 0 ∨ 4096 < m) := by show _ ∨ _; omega
    clear hans hin
    go_enter Tryz.func26, Tryz.ntmps26
    go_wp2_with fail
    go_quiet (first | (go_at_call 27; exact Calls.quiet_of_same (tin_no _ _ _ _ HIn.out)))
    go_wp2
    go_ret
    exact ⟨ret_bool HAns.out.symm, below_drewN HB1.out nq⟩

end Go.Proofs.YtckpacifimpkgacGreat

namespace Go.Proofs.YtckpacifimpkgacGreat
open Go.RowKit
set_option linter.unusedVariables false

set_option maxRecDepth 10000 in
set_option maxHeartbeats 1600000 in
theorem specRes_any (m n : Int) (a : Option Addr) (len ca : Nat) (xs : List Fld) (w : World) (hx : Flds w a len xs) (hl : len + fldBytes xs ≤ 2097152) :
    Calls Tryz.prog 69 #[.agg #[.int .i64 m, .slice a len ca], .int .i64 n] w fun e w' => ∃ v m' k ys, e = .returned (.agg #[.int .i64 m', v]) ∧ CutAns m n xs m' ys ∧ OwnF w' w.heap.size v k ys ∧ Below w.heap.size w w' := by
  have HX : Hid (Flds w a len xs) := hx
  have hlen := hx.1
  clear hx
  go_enter Tryz.func69, Tryz.ntmps69
  go_wp2_with fail
  obtain ⟨w2, hw2⟩ : ∃ w2, (w.alloc (.cells #[.int .i64 m, .slice a len ca] 26)).alloc (.cells #[.int .i64 0, .slice none 0 0] 26) = w2 := ⟨_, rfl⟩
  have hq1 : w2.heap[w.heap.size]? = some (.cells #[.int .i64 m, .slice a len ca] 26 (0, 0)) := by
    rw [← hw2]
    exact kept_alloc (heap_alloc_new w _) _
  have hq2 : w2.heap[w.heap.size + 1]? = some (.cells #[.int .i64 0, .slice none 0 0] 26 (0, 0)) := by
    rw [← hw2]
    have h1 := heap_alloc_new (w.alloc (.cells #[.int .i64 m, .slice a len ca] 26)) (.cells #[.int .i64 0, .slice none 0 0] 26)
    rw [World.size_alloc] at h1
    exact h1
  have HB2 : Hid (Below w.heap.size w w2) := by show Below _ _ _; rw [← hw2]; exact ((Below.refl _ _).alloc (Nat.le_refl _) _).alloc (by simp) _
  have HW2 : Hid (w2.heap.size = w.heap.size + 2) := by show _ = _; rw [← hw2]; simp
  rw [hw2]
  clear hw2
  refine (specCopy_any m a len ca xs w2 (HX.out.below HB2.out) (by omega)).mono ?_
  rintro e w3 ⟨v, rfl, hof, hb3⟩
  obtain ⟨a3, cap3, rfl⟩ := hof.shape
  have hs2 := HW2.out
  have hr1 : w3.heap[w.heap.size]? = some (.cells #[.int .i64 m, .slice a len ca] 26 (0, 0)) := (hb3.block _ (by omega)).trans hq1
  have hr2 : w3.heap[w.heap.size + 1]? = some (.cells #[.int .i64 0, .slice none 0 0] 26 (0, 0)) := (hb3.block _ (by omega)).trans hq2
  have hB3 : Below w.heap.size w w3 := HB2.out.trans (hb3.mono HB2.out.size)
  obtain ⟨W4, hW4⟩ : ∃ W4, w3.alloc (.cells #[.int .i64 m, .slice a3 len cap3] 26) = W4 := ⟨_, rfl⟩
  have HT : Hid (∀ W, Below W4.heap.size W4 W → W.heap[w.heap.size]? = some (.cells #[.int .i64 m, .slice a len ca] 26 (0, 0)) ∧ W.heap[w.heap.size + 1]? = some (.cells #[.int .i64 0, .slice none 0 0] 26 (0, 0)) ∧ W.heap[w3.heap.size]? = some (.cells #[.int .i64 m, .slice a3 len cap3] 26 (0, 0)) ∧ Below w.heap.size w W ∧ Flds W a len xs ∧ OwnF W w2.heap.size (.slice a3 len cap3) len xs) := by
    intro W hW
    have k1 : W4.heap.size = w3.heap.size + 1 := by rw [← hW4]; simp
    have k2 := hb3.size
    have hb4 : Below w3.heap.size w3 W4 := by rw [← hW4]; exact (Below.refl _ _).alloc (Nat.le_refl _) _
    have hb : Below w3.heap.size w3 W := hb4.trans (hW.mono (by omega))
    have hbw := hB3.trans (hb.mono (by omega))
    refine ⟨(hb.block _ (by omega)).trans hr1, (hb.block _ (by omega)).trans hr2, ?_, hbw, HX.out.below hbw, own_stays hof.1 hb, hof.2⟩
    rw [hW.block _ (by omega), ← hW4]
    exact heap_alloc_new w3 _
  have HS3 : Hid (w.heap.size + 2 ≤ w3.heap.size) := by show _ ≤ _; have := hb3.size; omega
  have HW24 : Hid (w2.heap.size = w.heap.size + 2) := hs2
  have HOk : Hid (∀ W, Flds W a len xs → Calls Tryz.prog 26 #[.agg #[.int .i64 m, .slice a len ca]] W fun e w' => e = .returned (.bool (okT m xs)) ∧ Below W.heap.size W w') := fun W hW => specOk_any m a len ca xs W hW hl
  obtain ⟨b0, b1, _, _⟩ := two_cells (HT.out W4 (Below.refl _ _)).1
  have HF4 : Hid (Flds W4 a len xs) := (HT.out W4 (Below.refl _ _)).2.2.2.2.1
  clear hq1 hq2 hr1 hr2 hb3 hof hB3 hs2
  have HW4 : Hid (w3.alloc (.cells #[.int .i64 m, .slice a3 len cap3] 26) = W4) := hW4
  go_wp2_with fail
  refine (HOk.out W4 HF4.out).mono ?_
  rintro e w5 ⟨rfl, hb5⟩
  obtain ⟨t1, t2, t3, t4, t5, t6⟩ := HT.out w5 hb5
  clear hW4 b0 b1 HF4 HT HW4
  obtain ⟨b0, b1, b2, b3⟩ := two_cells t2
  obtain ⟨d0, d1, d2, d3⟩ := two_cells t3
  have HB5 : Hid (Below w.heap.size w w5) := t4
  have HO5 : Hid (OwnF w5 w2.heap.size (.slice a3 len cap3) len xs) := t6
  have HQ : Hid (w5.heap[w.heap.size + 1]? = some (.cells #[.int .i64 0, .slice none 0 0] 26 (0, 0)) ∧ w5.heap[w3.heap.size]? = some (.cells #[.int .i64 m, .slice a3 len cap3] 26 (0, 0))) := ⟨t2, t3⟩
  clear t1 t2 t3 t4 t5 t6 hb5
  have hend : ∀ (W : World) (vm : Int) (k : Nat) (ys : List Fld), CutAns m n xs vm ys → OwnF W w2.heap.size (.slice a3 k cap3) k ys → Below w.heap.size w W → ∃ v m' k' zs, Ending.returned (.agg #[.int .i64 vm, .slice a3 k cap3]) = .returned (.agg #[.int .i64 m', v]) ∧ CutAns m n xs m' zs ∧ OwnF ((W.setCell ⟨w.heap.size + 1, 0, none⟩ (.int .i64 vm)).setCell ⟨w.heap.size + 1, 1, none⟩ (.slice a3 k cap3)) w.heap.size v k' zs ∧ Below w.heap.size w ((W.setCell ⟨w.heap.size + 1, 0, none⟩ (.int .i64 vm)).setCell ⟨w.heap.size + 1, 1, none⟩ (.slice a3 k cap3)) := by
    intro W vm k ys h1 h2 h3
    have h4 := HW24.out
    exact ⟨_, vm, k, ys, rfl, h1, ⟨own_down (ownsRow_setCell_below (ownsRow_setCell_below h2.1 (a := ⟨w.heap.size + 1, 0, none⟩) (by dsimp only; omega) _) (a := ⟨w.heap.size + 1, 1, none⟩) (by dsimp only; omega) _) (by omega), h2.2⟩, (h3.setCell (p := ⟨w.heap.size + 1, 0, none⟩) (by dsimp only; omega) _).setCell (p := ⟨w.heap.size + 1, 1, none⟩) (by dsimp only; omega) _⟩
  have HEnd : Hid (∀ (W : World) (vm : Int) (k : Nat) (ys : List Fld), CutAns m n xs vm ys → OwnF W w2.heap.size (.slice a3 k cap3) k ys → Below w.heap.size w W → ∃ v m' k' zs, Ending.returned (.agg #[.int .i64 vm, .slice a3 k cap3]) = .returned (.agg #[.int .i64 m', v]) ∧ CutAns m n xs m' zs ∧ OwnF ((W.setCell ⟨w.heap.size + 1, 0, none⟩ (.int .i64 vm)).setCell ⟨w.heap.size + 1, 1, none⟩ (.slice a3 k cap3)) w.heap.size v k' zs ∧ Below w.heap.size w ((W.setCell ⟨w.heap.size + 1, 0, none⟩ (.int .i64 vm)).setCell ⟨w.heap.size + 1, 1, none⟩ (.slice a3 k cap3))) := hend
  clear hend
  cases hok : okT m xs with
  | false =>
    have HCut : Hid (CutAns m n xs m xs) := .inr ⟨fun h => by rw [hok] at h; exact absurd h.1 (by simp), rfl, rfl⟩
    clear hok HOk
    go_wp2_with fail
    refine bodyPost_ret (v := .agg #[.int .i64 m, .slice a3 len cap3]) (by simp [results, Tryz.f69, go_sem, b0, b1]) rfl ?_
    exact HEnd.out w5 m len xs HCut.out HO5.out HB5.out
  | true =>
    by_cases hin : 0 ≤ n ∧ n ≤ 4096
    · have HYes : Hid (okT m xs = true ∧ 0 ≤ n ∧ n ≤ 4096) := ⟨hok, hin.1, hin.2⟩
      obtain ⟨h0, h1⟩ := hin
      clear hok HOk
      go_wp2_with fail
      refine (tin_yes _ _ _ _ h0 h1).mono ?_
      rintro e w6 ⟨rfl, rfl⟩
      go_wp2_with fail
      have hn1 := own_other' HO5.out.1 HQ.out.2 (by decide)
      have ho7 : OwnF (w6.setCell ⟨w3.heap.size, 0, none⟩ (.int .i64 n)) w2.heap.size (.slice a3 len cap3) len xs := ⟨ownsRow_setCell_other HO5.out.1 (a := ⟨w3.heap.size, 0, none⟩) hn1 _, HO5.out.2⟩
      have hs3 := HS3.out
      have hq7 : (w6.setCell ⟨w3.heap.size, 0, none⟩ (.int .i64 n)).heap[w.heap.size + 1]? = some (.cells #[.int .i64 0, .slice none 0 0] 26 (0, 0)) := (set_block_other _ _ _ _ _ (by omega)).trans HQ.out.1
      have hb7 : Below w.heap.size w (w6.setCell ⟨w3.heap.size, 0, none⟩ (.int .i64 n)) := HB5.out.setCell (p := ⟨w3.heap.size, 0, none⟩) (by dsimp only; omega) _
      have HO7 : Hid (OwnF (w6.setCell ⟨w3.heap.size, 0, none⟩ (.int .i64 n)) w2.heap.size (.slice a3 len cap3) len xs) := ho7
      have HT7 : Hid ((w6.setCell ⟨w3.heap.size, 0, none⟩ (.int .i64 n)).heap[w.heap.size + 1]? = some (.cells #[.int .i64 0, .slice none 0 0] 26 (0, 0)) ∧ Below w.heap.size w (w6.setCell ⟨w3.heap.size, 0, none⟩ (.int .i64 n))) := ⟨hq7, hb7⟩
      generalize w6.setCell ⟨w3.heap.size, 0, none⟩ (.int .i64 n) = w7 at *
      clear ho7 hq7 hb7 hn1 hs3 b0 b1 b2 b3 d0 d1 d2 d3
      refine (specFit_any n a3 len cap3 xs w7 HO7.out.flds h0 h1 (own_cap HO7.out.1) hl).mono ?_
      rintro e w8 ⟨k, rfl, hfit, hb8⟩
      have hfk := hfit.1
      rw [hlen] at hfk
      have hlt : w.heap.size + 1 < w7.heap.size := (Array.getElem?_eq_some_iff.1 HT7.out.1).1
      have HCut : Hid (CutAns m n xs n (xs.take k)) := .inl ⟨HYes.out, rfl, k, hfit, rfl⟩
      have HO8 : Hid (OwnF w8 w2.heap.size (.slice a3 k cap3) k (xs.take k)) := OwnF.cut ⟨own_stays HO7.out.1 hb8, HO7.out.2⟩ k hfk
      have HB8 : Hid (Below w.heap.size w w8) := HT7.out.2.trans (hb8.mono HT7.out.2.size)
      obtain ⟨b0, b1, b2, b3⟩ := two_cells ((hb8.block _ hlt).trans HT7.out.1)
      clear hfit hb8 hfk hlt
      go_wp2_with fail
      refine bodyPost_ret (v := .agg #[.int .i64 n, .slice a3 k cap3]) (by simp [results, Tryz.f69, go_sem, b0, b1]) rfl ?_
      exact HEnd.out w8 n k (xs.take k) HCut.out HO8.out HB8.out
    · have HNo : Hid (n < 0 ∨ 4096 < n) := by show _ ∨ _; omega
      have HCut : Hid (CutAns m n xs m xs) := .inr ⟨fun h => hin h.2, rfl, rfl⟩
      clear hok HOk hin
      go_wp2_with fail
      refine (tin_no _ _ _ _ HNo.out).mono ?_
      rintro e w6 ⟨rfl, rfl⟩
      go_wp2_with fail
      refine bodyPost_ret (v := .agg #[.int .i64 m, .slice a3 len cap3]) (by simp [results, Tryz.f69, go_sem, b0, b1]) rfl ?_
      exact HEnd.out _ m len xs HCut.out HO5.out HB5.out

end Go.Proofs.YtckpacifimpkgacGreat

namespace Go.Proofs.YtckpacifimpkgacGreat
open Go.RowKit
set_option linter.unusedVariables false

/-- A reader: its table, how much may be told, its bytes, its place, its fields. -/
def Sd (W : World) (r : Nat) (b : Value) (i most m : Int) (tv fv : Value) : Prop := W.heap[r]? = some (.cells #[.int .i64 m, tv, .int .i64 most, b, .int .i64 i, fv] 58 (0, 0))

theorem Sd.lt {W : World} {r : Nat} {b : Value} {i most m : Int} {tv fv : Value} (h : Sd W r b i most m tv fv) : r < W.heap.size := (Array.getElem?_eq_some_iff.1 h).1

theorem Sd.stays {W W' : World} {r : Nat} {b : Value} {i most m : Int} {tv fv : Value} (h : Sd W r b i most m tv fv) (hb : Below W.heap.size W W') : Sd W' r b i most m tv fv := (hb.block r h.lt).trans h

theorem Sd.cells {W : World} {r : Nat} {b : Value} {i most m : Int} {tv fv : Value} (h : Sd W r b i most m tv fv) :
    W.cell? ⟨r, 0, none⟩ = some (.int .i64 m) ∧ W.cell? ⟨r, 1, none⟩ = some tv ∧ W.cell? ⟨r, 2, none⟩ = some (.int .i64 most) ∧ W.cell? ⟨r, 3, none⟩ = some b ∧ W.cell? ⟨r, 4, none⟩ = some (.int .i64 i) ∧ W.cell? ⟨r, 5, none⟩ = some fv ∧ ∀ k, k < 6 → W.frozen? ⟨r, k, none⟩ = false := by
  unfold Sd at h
  refine ⟨?_, ?_, ?_, ?_, ?_, ?_, ?_⟩
  · simp [World.cell?, h]
  · simp [World.cell?, h]
  · simp [World.cell?, h]
  · simp [World.cell?, h]
  · simp [World.cell?, h]
  · simp [World.cell?, h]
  · intro k _
    simp [World.frozen?, h]

theorem Sd.setAt {W : World} {r : Nat} {b : Value} {i most m : Int} {tv fv : Value} (h : Sd W r b i most m tv fv) (j : Int) : Sd (W.setCell ⟨r, 4, none⟩ (.int .i64 j)) r b j most m tv fv := by
  unfold Sd at h ⊢
  rw [setCell_eq_setRow W r 4 _ _ (0, 0) _ h, setRow_heap W r _ _ _ (0, 0) h]
  rfl

theorem Sd.setFlds {W : World} {r : Nat} {b : Value} {i most m : Int} {tv fv : Value} (h : Sd W r b i most m tv fv) (v : Value) : Sd (W.setCell ⟨r, 5, none⟩ v) r b i most m tv v := by
  unfold Sd at h ⊢
  rw [setCell_eq_setRow W r 5 _ _ (0, 0) _ h, setRow_heap W r _ _ _ (0, 0) h]
  rfl

theorem Sd.setTab {W : World} {r : Nat} {b : Value} {i most m : Int} {tv fv : Value} (h : Sd W r b i most m tv fv) (m' : Int) (v : Value) : Sd ((W.setCell ⟨r, 0, none⟩ (.int .i64 m')).setCell ⟨r, 1, none⟩ v) r b i most m' v fv := by
  unfold Sd at h ⊢
  have h1 : (W.setCell ⟨r, 0, none⟩ (.int .i64 m')).heap[r]? = some (.cells #[.int .i64 m', tv, .int .i64 most, b, .int .i64 i, fv] 58 (0, 0)) := by
    rw [setCell_eq_setRow W r 0 _ _ (0, 0) _ h, setRow_heap W r _ _ _ (0, 0) h]
    rfl
  rw [setCell_eq_setRow _ r 1 _ _ (0, 0) _ h1, setRow_heap _ r _ _ _ (0, 0) h1]
  rfl

theorem Sd.grew {W W' : World} {r : Nat} {b : Value} {i most m : Int} {tv fv : Value} {q : Option Nat} (h : Sd W r b i most m tv fv) (hg : W.grownBy W' q) (hr : q ≠ some r) : Sd W' r b i most m tv fv := (hg.block r h.lt (Ne.symm hr)).trans h

theorem owns_set_ne {w : World} {base n size : Nat} {e : TypeId} {v : Value} {xs : List Value} (h : w.ownsRow base e size v n xs) {b : Nat} (hb : v.ownBlock ≠ some b) (k : Nat) (u : Value) : (w.setCell ⟨b, k, none⟩ u).ownsRow base e size v n xs := by
  refine ⟨h.1, ?_⟩
  rcases h.2 with h | ⟨g, cap, cur, heq, h1, hg, r⟩
  · exact .inl h
  · refine .inr ⟨g, cap, cur, heq, h1, ?_, r⟩
    rw [set_block_other _ _ _ _ _ (fun e => hb (by rw [heq, e]; rfl))]
    exact hg

theorem ownS_set {w : World} {base n r : Nat} {v : Value} {xs : List Fld} {b : Value} {i most m : Int} {tv fv : Value} (h : OwnF w base v n xs) (hr : Sd w r b i most m tv fv) (k : Nat) (u : Value) : OwnF (w.setCell ⟨r, k, none⟩ u) base v n xs := ⟨owns_set_ne h.1 (own_other' h.1 hr (by decide)) k u, h.2⟩

/-- A reader with its table and its fields, two rows of its own. -/
def SdO (W : World) (B r : Nat) (b : Value) (i most m : Int) (ta : Option Addr) (tl tc : Nat) (xs : List Fld) (fa : Option Addr) (fl fc : Nat) (fs : List Fld) : Prop :=
  Sd W r b i most m (.slice ta tl tc) (.slice fa fl fc) ∧ B ≤ r ∧ OwnF W B (.slice ta tl tc) tl xs ∧ OwnF W B (.slice fa fl fc) fl fs ∧ ∀ k, fa.map (·.block) = some k → ta.map (·.block) ≠ some k

theorem SdO.stays {W W' : World} {B r : Nat} {b : Value} {i most m : Int} {ta : Option Addr} {tl tc : Nat} {xs : List Fld} {fa : Option Addr} {fl fc : Nat} {fs : List Fld} (h : SdO W B r b i most m ta tl tc xs fa fl fc fs) (hb : Below W.heap.size W W') : SdO W' B r b i most m ta tl tc xs fa fl fc fs :=
  ⟨h.1.stays hb, h.2.1, h.2.2.1.stays hb, h.2.2.2.1.stays hb, h.2.2.2.2⟩

theorem SdO.setAt {W : World} {B r : Nat} {b : Value} {i most m : Int} {ta : Option Addr} {tl tc : Nat} {xs : List Fld} {fa : Option Addr} {fl fc : Nat} {fs : List Fld} (h : SdO W B r b i most m ta tl tc xs fa fl fc fs) (j : Int) : SdO (W.setCell ⟨r, 4, none⟩ (.int .i64 j)) B r b j most m ta tl tc xs fa fl fc fs :=
  ⟨h.1.setAt j, h.2.1, ownS_set h.2.2.1 h.1 _ _, ownS_set h.2.2.2.1 h.1 _ _, h.2.2.2.2⟩

/-- A field more. -/
theorem SdO.more {W W' : World} {B r : Nat} {b : Value} {i most m : Int} {ta : Option Addr} {tl tc : Nat} {xs : List Fld} {fa : Option Addr} {fl fc : Nat} {fs : List Fld} {x y : ByteArray} {o : Obj} {fa' : Option Addr} {fc' : Nat} (h : SdO W B r b i most m ta tl tc xs fa fl fc fs) (hf : x.size ≤ maxLen ∧ y.size ≤ maxLen)
    (hown : W'.ownsRow B 43 2 (.slice fa' (fl + 1) fc') (fl + 1) (fieldCells fs ++ fieldCells [(x, y)])) (hg : (W.alloc o).grownBy W' (Value.slice fa fl fc).ownBlock) (hap : ∀ k, fa'.map (·.block) = some k → ta.map (·.block) ≠ some k) :
    SdO (W'.setCell ⟨r, 5, none⟩ (.slice fa' (fl + 1) fc')) B r b i most m ta tl tc xs fa' (fl + 1) fc' (fs ++ [(x, y)]) := by
  have hn := (Below.refl W.heap.size W).alloc (Nat.le_refl _) o
  obtain ⟨h1, h2, h3, h4, h5⟩ := h.stays hn
  have hr1 : Sd W' r b i most m (.slice ta tl tc) (.slice fa fl fc) := h1.grew hg (own_other' h4.1 h1 (by decide))
  have ht : OwnF W' B (.slice ta tl tc) tl xs := by
    refine h3.grown hg ?_
    rw [ownBlock_slice, ownBlock_slice]
    cases e : fa.map (·.block) with
    | none =>
      cases e2 : ta.map (·.block) with
      | none => exact .inl rfl
      | some k => exact .inr (by simp)
    | some k => exact .inr (h5 k e)
  refine ⟨hr1.setFlds _, h2, ownS_set ht hr1 _ _, ?_, hap⟩
  refine ownS_set ⟨?_, ?_⟩ hr1 _ _
  · rw [fieldCells_append]
    exact hown
  · intro f hf'
    rcases List.mem_append.1 hf' with hf' | hf'
    · exact h4.2 f hf'
    · simp at hf'
      subst hf'
      exact hf

/-- Another table. -/
theorem SdO.tab {W Y : World} {B r : Nat} {b : Value} {i most m : Int} {ta : Option Addr} {tl tc : Nat} {xs : List Fld} {fa : Option Addr} {fl fc : Nat} {fs : List Fld} {va : Option Addr} {k vc : Nat} {ys : List Fld} (h : SdO W B r b i most m ta tl tc xs fa fl fc fs) (hb : Below W.heap.size W Y) (hB : B ≤ W.heap.size) (ho : OwnF Y W.heap.size (.slice va k vc) k ys) (m' : Int) :
    SdO ((Y.setCell ⟨r, 0, none⟩ (.int .i64 m')).setCell ⟨r, 1, none⟩ (.slice va k vc)) B r b i most m' va k vc ys fa fl fc fs := by
  have hs := h.stays hb
  have e1 := own_other' ho.1 hs.1 (by decide)
  have e2 := own_other' hs.2.2.2.1.1 hs.1 (by decide)
  refine ⟨hs.1.setTab m' _, h.2.1, ⟨own_down (owns_set_ne (owns_set_ne ho.1 e1 _ _) e1 _ _) hB, ho.2⟩, ⟨owns_set_ne (owns_set_ne hs.2.2.2.1.1 e2 _ _) e2 _ _, hs.2.2.2.1.2⟩, fun j g1 g2 => ?_⟩
  have h1 := (h.2.2.2.1.lt j (by rw [ownBlock_slice]; exact g1)).2
  have h2 := (ho.lt j (by rw [ownBlock_slice]; exact g2)).1
  omega

/-- What l5Size answers. -/
def SizeAns (zs : List Int) (most : Int) (i : Nat) (m : Int) (xs fs : List Fld) (j m' : Int) (ys : List Fld) (code : Int) : Prop :=
  ∃ (n p : Int) (ok : Bool), getPfx zs i 5 = (n, p, ok) ∧ ((ok = false ∧ code = 1) ∨ (ok = true ∧ (((most < n ∨ 0 < fs.length) ∧ code = 3) ∨ (¬ (most < n ∨ 0 < fs.length) ∧ code = 0 ∧ j = p ∧ CutAns m n xs m' ys))))

set_option maxRecDepth 10000 in
set_option maxHeartbeats 1600000 in
theorem spSize_any (w00 : World) (r bb off len cap i : Nat) (zs : List Int) (most m : Int) (ta : Option Addr) (tl tc : Nat) (xs : List Fld) (fa : Option Addr) (fl fc : Nat) (fs : List Fld) (w : World) (h0 : Below w00.heap.size w00 w) (hs : Seg w00 (some ⟨bb, off, none⟩) len zs)
    (hr : SdO w w00.heap.size r (.slice (some ⟨bb, off, none⟩) len cap) i most m ta tl tc xs fa fl fc fs) (hl : len ≤ 4000) (hok : okT m xs = true) :
    Calls Tryz.prog 48 #[.pointer (some ⟨r, 0, none⟩)] w fun e w' => ∃ (code j m' : Int) (va : Option Addr) (k vc : Nat) (ys : List Fld), SizeAns zs most i m xs fs j m' ys code ∧ e = .returned (.int .i64 code) ∧ Below w00.heap.size w00 w' ∧ (code = 0 → SdO w' w00.heap.size r (.slice (some ⟨bb, off, none⟩) len cap) j most m' va k vc ys fa fl fc fs) := by
  have HS : Hid (∀ W, Below w00.heap.size w00 W → Seg W (some ⟨bb, off, none⟩) len zs) := fun W h => hs.below h
  have HB : Hid (Below w00.heap.size w00 w) := h0
  have HR : Hid (SdO w w00.heap.size r (.slice (some ⟨bb, off, none⟩) len cap) i most m ta tl tc xs fa fl fc fs) := hr
  have HFl : Hid (fs.length = fl) := hr.2.2.2.1.len
  have htl : tl + fldBytes xs ≤ 4096 := by have h3 := okT_small hok; have h4 := hr.2.2.1.len; omega
  clear hr h0 hs
  obtain ⟨⟨n, p, ok⟩, hgp⟩ : ∃ q, getPfx zs (i : Int) 5 = q := ⟨_, rfl⟩
  have HGp : Hid (getPfx zs (i : Int) 5 = (n, p, ok)) := hgp
  have HG : Hid (∀ W, Below w00.heap.size w00 W → Calls Tryz.prog 46 #[.slice (some ⟨bb, off, none⟩) len cap, .int .i64 i, .int .i64 5] W fun e w' => e = .returned (.tuple #[.int .i64 n, .int .i64 p, .bool ok]) ∧ w' = W) := fun W h => by
    have := specGpx_any (some ⟨bb, off, none⟩) len cap i 5 zs W (HS.out W h) (by omega)
    rw [hgp] at this
    exact this
  clear hgp
  obtain ⟨c0, c1, c2, c3, c4, c5, c6⟩ := HR.out.1.cells
  go_enter Tryz.func48, Tryz.ntmps48
  go_wp2_with fail
  go_region_held3 (fun W => W.cell? ⟨r, 3, none⟩ = some (.slice (some ⟨bb, off, none⟩) len cap) ∧ W.cell? ⟨r, 4, none⟩ = some (.int .i64 i)) (first | (refine ⟨?_, ?_⟩ <;> assumption) | (refine ⟨?_, ?_⟩ <;> (simp [go_sem, *]; done)) | go_keep) (first
    | (go_at_call 46; refine (HG.out _ HB.out.drew).mono ?_; rintro e y3 ⟨rfl, hy3⟩
       subst hy3)
    | fail)
  have HR3 : Hid (SdO w.drew w00.heap.size r (.slice (some ⟨bb, off, none⟩) len cap) i most m ta tl tc xs fa fl fc fs) := HR.out.stays (Below.refl _ _).drew
  have HB3 : Hid (Below w00.heap.size w00 w.drew) := HB.out.drew
  generalize w.drew = y3 at *
  clear c0 c1 c2 c3 c4 c5 c6 HR HB HG
  cases ok with
  | false =>
    go_wp2_with fail
    go_ret
    exact ⟨1, 0, 0, none, 0, 0, [], ⟨n, p, false, HGp.out, .inl ⟨rfl, rfl⟩⟩, rfl, HB3.out, fun h => by cases h⟩
  | true =>
    obtain ⟨c0, c1, c2, c3, c4, c5, c6⟩ := HR3.out.1.cells
    have c7 := c6 0 (by omega)
    have c8 := c6 1 (by omega)
    have c9 := c6 4 (by omega)
    clear c6
    by_cases h1 : most < n
    · have d1 : decide (most < n) = true := by simp; omega
      have d1p : (most < n) = True := by simp; omega
      go_wp2_with fail
      go_ret
      exact ⟨3, 0, 0, none, 0, 0, [], ⟨n, p, true, HGp.out, .inr ⟨rfl, .inl ⟨.inl (by omega), rfl⟩⟩⟩, rfl, HB3.out, fun h => by cases h⟩
    · have d1 : decide (most < n) = false := by simp; omega
      have d1p : (most < n) = False := by simp; omega
      by_cases h2 : 0 < fl
      · have d2 : decide ((0 : Int) < (fl : Int)) = true := by simp; omega
        have d2p : ((0 : Int) < (fl : Int)) = True := by simp; omega
        have HC : Hid (most < n ∨ 0 < fs.length) := by show _ ∨ _; rw [HFl.out]; exact .inr h2
        go_wp2_with fail
        go_ret
        exact ⟨3, 0, 0, none, 0, 0, [], ⟨n, p, true, HGp.out, .inr ⟨rfl, .inl ⟨HC.out, rfl⟩⟩⟩, rfl, HB3.out, fun h => by cases h⟩
      · have d2 : decide ((0 : Int) < (fl : Int)) = false := by simp; omega
        have d2p : ((0 : Int) < (fl : Int)) = False := by simp; omega
        have HNo : Hid (¬ (most < n ∨ 0 < fs.length)) := by show ¬ _; rw [HFl.out]; omega
        go_wp2_with fail
        refine (specRes_any m n ta tl tc xs y3 HR3.out.2.2.1.flds (by omega)).mono ?_
        rintro e w1 ⟨v, m', k, ys, rfl, hcut, ho1, hb1⟩
        obtain ⟨av, cv, rfl⟩ := ho1.shape
        have HC : Hid (CutAns m n xs m' ys) := hcut
        have HR1 : Hid (SdO w1 w00.heap.size r (.slice (some ⟨bb, off, none⟩) len cap) i most m ta tl tc xs fa fl fc fs) := HR3.out.stays hb1
        have HT1 : Hid (SdO ((w1.setCell ⟨r, 0, none⟩ (.int .i64 m')).setCell ⟨r, 1, none⟩ (.slice av k cv)) w00.heap.size r (.slice (some ⟨bb, off, none⟩) len cap) i most m' av k cv ys fa fl fc fs) := HR3.out.tab hb1 HB3.out.size ho1 m'
        have HB1 : Hid (Below w00.heap.size w00 ((w1.setCell ⟨r, 0, none⟩ (.int .i64 m')).setCell ⟨r, 1, none⟩ (.slice av k cv))) := ((HB3.out.trans (hb1.mono HB3.out.size)).setCell (p := ⟨r, 0, none⟩) HR3.out.2.1 _).setCell (p := ⟨r, 1, none⟩) HR3.out.2.1 _
        have HT2 : Hid _ := HT1.out.setAt p
        have HB2 : Hid _ := HB1.out.setCell (p := ⟨r, 4, none⟩) HR3.out.2.1 (.int .i64 p)
        clear hcut ho1 hb1 c0 c1 c2 c3 c4 c5 c7 c8 c9
        obtain ⟨c0, c1, c2, c3, c4, c5, c6⟩ := HR1.out.1.cells
        have c7 := c6 0 (by omega)
        have c8 := c6 1 (by omega)
        have c9 := c6 4 (by omega)
        clear c6
        go_wp2_with fail
        go_ret
        exact ⟨0, p, m', av, k, cv, ys, ⟨n, p, true, HGp.out, .inr ⟨rfl, .inr ⟨HNo.out, rfl, rfl, HC.out⟩⟩⟩, rfl, HB2.out, fun _ => HT2.out⟩

end Go.Proofs.YtckpacifimpkgacGreat
