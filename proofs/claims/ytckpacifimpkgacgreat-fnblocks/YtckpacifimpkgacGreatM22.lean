/- The specification's FirstField. The specification's copy of a table. The specification's FieldAt. What the specification's l5Literal answers, over blocks of at most 4000 bytes. The specification's SizeOf. -/
import Derived.Test.YtckpacifimpkgacGreatM21
import Derived.Test.YtckpacifimpkgacGreatM20
import Derived.Test.YtckpacifimpkgacGreatM07
import Derived.Test.YtckpacifimpkgacGreatM08
import Derived.Test.YtckpacifimpkgacGreatM09
import Derived.Deep.RegionWith
import Derived.Test.YtckpacifimpkgacGreatM18
import Derived.Deep.Cut
import Derived.Test.YtckpacifimpkgacGreatM04
namespace Go.Proofs.YtckpacifimpkgacGreat
open Go.RowKit
set_option linter.unusedVariables false

set_option maxRecDepth 10000 in
set_option maxHeartbeats 800000 in
theorem specFF_any (i : Int) (w : World) : Calls Tryz.prog 68 #[.int .i64 i] w fun e w' => e = .returned (.tuple #[.agg #[.string (firstAns i).1.1, .string (firstAns i).1.2], .bool (firstAns i).2]) ∧ Below w.heap.size w w' := by
  by_cases h : 1 ≤ i ∧ i ≤ 61
  · obtain ⟨k, hk⟩ : ∃ k : Nat, i = (k : Int) + 1 := ⟨(i - 1).toNat, by omega⟩
    have hk61 : k < firstL.length := by rw [firstL_len]; omega
    have e : firstAns i = ((firstL[k]'hk61), true) := by
      rw [firstAns, if_pos h, show (i - 1).toNat = k by omega, List.getD_eq_getElem?_getD, List.getElem?_eq_getElem hk61]
      rfl
    rw [e]
    subst hk
    clear e
    obtain ⟨h1, h2⟩ := h
    go_enter Tryz.func68, Tryz.ntmps68
    go_wp2_with fail
    refine (tin_yes _ _ _ _ h1 h2).mono ?_
    rintro e w1 ⟨rfl, rfl⟩
    go_wp2_with fail
    refine (specFirst_any _).mono ?_
    rintro e w2 ⟨rfl, hf2, hb2⟩
    have hN : (w.alloc (Obj.cells #[Value.string ⟨#[]⟩, Value.string ⟨#[]⟩] 43)).heap.size = w.heap.size + 1 := Array.size_push _
    rw [hN] at hf2 hb2
    rw [hN]
    obtain ⟨hs, hsz, hc⟩ := hf2
    rcases hc with hc | ⟨b, off, ha, hlt, hc⟩
    · omega
    obtain ⟨rfl, rfl⟩ : b = w.heap.size + 1 ∧ off = 0 := by simp at ha; omega
    have HC := hc k hk61
    obtain ⟨c0, c1⟩ := HC
    rw [Nat.zero_add] at c0
    rw [Nat.zero_add] at c1
    clear hc ha hs hsz
    have b0 : w2.cell? ⟨w.heap.size, 0, none⟩ = some (.string ⟨#[]⟩) := (hb2.cell (p := ⟨w.heap.size, 0, none⟩) (Nat.lt_succ_self _)).trans (by simp [go_sem])
    have b1 : w2.cell? ⟨w.heap.size, 1, none⟩ = some (.string ⟨#[]⟩) := (hb2.cell (p := ⟨w.heap.size, 1, none⟩) (Nat.lt_succ_self _)).trans (by simp [go_sem])
    have f0 : w2.frozen? ⟨w.heap.size, 0, none⟩ = false := (hb2.frozen (p := ⟨w.heap.size, 0, none⟩) (Nat.lt_succ_self _)).trans (by simp [go_sem])
    have f1 : w2.frozen? ⟨w.heap.size, 1, none⟩ = false := (hb2.frozen (p := ⟨w.heap.size, 1, none⟩) (Nat.lt_succ_self _)).trans (by simp [go_sem])
    go_wp2_with fail
    refine bodyPost_ret (v := .tuple #[.agg #[.string (firstL[k]'hk61).1, .string (firstL[k]'hk61).2], .bool true]) (by simp [results, Tryz.f68, go_sem, b0, b1]) rfl ?_
    refine ⟨rfl, ?_⟩
    exact ((((Below.refl _ _).alloc (Nat.le_refl _) _).trans (hb2.mono (Nat.le_succ _))).setCell (Nat.le_refl _) _).setCell (Nat.le_refl _) _
  · have e : firstAns i = ((⟨#[]⟩, ⟨#[]⟩), false) := by rw [firstAns, if_neg h]
    rw [e]
    have HF : Hid (i < 1 ∨ 61 < i) := by show _ ∨ _; omega
    clear h e
    go_enter Tryz.func68, Tryz.ntmps68
    go_wp2_with fail
    refine (tin_no _ _ _ _ HF.out).mono ?_
    rintro e w1 ⟨rfl, rfl⟩
    go_wp2_with fail
    refine bodyPost_ret (v := .tuple #[.agg #[.string ⟨#[]⟩, .string ⟨#[]⟩], .bool false]) (by simp [results, Tryz.f68, go_sem]) rfl ?_
    exact ⟨rfl, (Below.refl _ _).alloc (Nat.le_refl _) _⟩

end Go.Proofs.YtckpacifimpkgacGreat

namespace Go.Proofs.YtckpacifimpkgacGreat
open Go.RowKit
set_option linter.unusedVariables false

set_option maxRecDepth 10000 in
set_option maxHeartbeats 1600000 in
theorem specCopy_any (m : Int) (a : Option Addr) (len ca : Nat) (xs : List Fld) (w : World) (hx : Flds w a len xs) (hl : len ≤ 2097152) :
    Calls Tryz.prog 28 #[.agg #[.int .i64 m, .slice a len ca]] w fun e w' => ∃ v, e = .returned (.agg #[.int .i64 m, v]) ∧ OwnF w' w.heap.size v len xs ∧ Below w.heap.size w w' := by
  obtain ⟨i0, hi, hz0, hz1, hz2⟩ := info_parts info_field
  have HX : Hid (Flds w a len xs) := hx
  have hlen := hx.1
  have hnil := fun h => hx.none_nil h
  have HNil : Hid (a = none → len = 0) := hnil
  clear hx hnil
  have HA : Hid (0 + len ≤ maxLen ∧ (0 + len) * 32 ≤ 140737488355328 ∧ (fieldCells xs).length = len * 2) := ⟨by unfold maxLen; omega, by omega, by rw [fieldCells_len]; omega⟩
  go_enter Tryz.func28, Tryz.ntmps28
  go_wp2_with fail
  obtain ⟨w2, hw2⟩ : ∃ w2, (w.alloc (.cells #[.int .i64 m, .slice a len ca] 26)).alloc (.cells #[.int .i64 0, .slice none 0 0] 26) = w2 := ⟨_, rfl⟩
  have hq1 : w2.heap[w.heap.size]? = some (.cells #[.int .i64 m, .slice a len ca] 26 (0, 0)) := by
    rw [← hw2]
    have h1 := heap_alloc_new w (.cells #[.int .i64 m, .slice a len ca] 26)
    have hlt : w.heap.size < (w.alloc (.cells #[.int .i64 m, .slice a len ca] 26)).heap.size := by simp
    exact (((Below.refl _ _).alloc (Nat.le_refl _) (.cells #[.int .i64 0, .slice none 0 0] 26)).block _ hlt).trans h1
  have hq2 : w2.heap[w.heap.size + 1]? = some (.cells #[.int .i64 0, .slice none 0 0] 26 (0, 0)) := by
    rw [← hw2]
    have h1 := heap_alloc_new (w.alloc (.cells #[.int .i64 m, .slice a len ca] 26)) (.cells #[.int .i64 0, .slice none 0 0] 26)
    simpa using h1
  have HB2 : Hid (Below w.heap.size w w2) := by show Below _ _ _; rw [← hw2]; exact ((Below.refl _ _).alloc (Nat.le_refl _) _).alloc (by simp) _
  have hs2 : w2.heap.size = w.heap.size + 2 := by rw [← hw2]; simp
  have HW2 : Hid (w2.heap.size = w.heap.size + 2) := hs2
  rw [hw2]
  clear hw2 hs2
  have HO : Hid ((w2.alloc (.cells #[] 43)).drew.ownsRow w2.heap.size 43 2 (.slice (some ⟨w2.heap.size, 0, none⟩) 0 0) 0 []) := World.ownsRow_lit w2 #[] 0 (Nat.le_refl _) (Nat.zero_le _) rfl
  have HB3 : Hid (Below w2.heap.size w2 (w2.alloc (.cells #[] 43)).drew) := below_drewN ((Below.refl _ _).alloc (Nat.le_refl _) _) 1
  have HF3 : Hid (Flds (w2.alloc (.cells #[] 43)).drew a len xs) := HX.out.below (HB2.out.trans (HB3.out.mono HB2.out.size))
  have HS3 : Hid (w2.heap.size ≤ (w2.alloc (.cells #[] 43)).drew.heap.size) := HB3.out.size
  have hu1 : (w2.alloc (.cells #[] 43)).heap[w.heap.size]? = some (.cells #[.int .i64 m, .slice a len ca] 26 (0, 0)) := (HB3.out.block _ (by have := HW2.out; omega)).trans hq1
  have hu2 : (w2.alloc (.cells #[] 43)).heap[w.heap.size + 1]? = some (.cells #[.int .i64 0, .slice none 0 0] 26 (0, 0)) := (HB3.out.block _ (by have := HW2.out; omega)).trans hq2
  have HU : Hid (∀ W, (w2.alloc (.cells #[] 43)).drew.grownBy W (some w2.heap.size) → W.heap[w.heap.size]? = some (.cells #[.int .i64 m, .slice a len ca] 26 (0, 0)) ∧ W.heap[w.heap.size + 1]? = some (.cells #[.int .i64 0, .slice none 0 0] 26 (0, 0))) := by
    intro W hg
    have h2 := HW2.out
    have h3 := HS3.out
    exact ⟨(hg.block _ (by omega) (by intro e; injection e with e; omega)).trans hu1, (hg.block _ (by omega) (by intro e; injection e with e; omega)).trans hu2⟩
  obtain ⟨c0, c1, _, _⟩ := two_cells hq1
  obtain ⟨d0, d1, _, _⟩ := two_cells hu1
  clear hq1 hq2 hu1 hu2
  go_region_law (first
    | (refine step_append_src rfl (.tmp 5) (.tmp 7) 24 rfl w2.heap.size 43 i0 (.agg #[.string ⟨#[]⟩, .string ⟨#[]⟩]) 2 32 Tryz.underlying24 hi hz0 hz1 hz2 rfl (by decide) w2.heap.size 0 0 [] rfl HO.out a len ca (fieldCells xs) rfl HNil.out HA.out.2.2 HF3.out.cells (fieldCells_one xs) HA.out.1 HA.out.2.1 HS3.out ?_; intro v4 w4 hown hgrow; obtain ⟨a4, cap4, rfl⟩ := own_shape hown; obtain ⟨e0, e1, _, _⟩ := two_cells (HU.out w4 hgrow).1; obtain ⟨g0, g1, g2, g3⟩ := two_cells (HU.out w4 hgrow).2))
  all_goals
    rw [Nat.zero_add, List.nil_append] at hown
    have h2 := HW2.out
    have HO4 : Hid (OwnF ((w4.setCell ⟨w.heap.size + 1, 0, none⟩ (.int .i64 m)).setCell ⟨w.heap.size + 1, 1, none⟩ (.slice a4 len cap4)) w.heap.size (.slice a4 len cap4) len xs) :=
      ⟨own_down (ownsRow_setCell_below (ownsRow_setCell_below hown (a := ⟨w.heap.size + 1, 0, none⟩) (by dsimp only; omega) _) (a := ⟨w.heap.size + 1, 1, none⟩) (by dsimp only; omega) _) (by omega), HX.out.2.1⟩
    have HB4 : Hid (Below w.heap.size w ((w4.setCell ⟨w.heap.size + 1, 0, none⟩ (.int .i64 m)).setCell ⟨w.heap.size + 1, 1, none⟩ (.slice a4 len cap4))) := by
      have h1 : Below w.heap.size w w4 := (HB2.out.trans (HB3.out.mono HB2.out.size)).grown hgrow (by have := HS3.out; omega) (fun k hk => by injection hk with hk; omega)
      exact (h1.setCell (p := ⟨w.heap.size + 1, 0, none⟩) (by dsimp only; omega) _).setCell (p := ⟨w.heap.size + 1, 1, none⟩) (by dsimp only; omega) _
    clear hown hgrow h2
    go_wp2
    refine bodyPost_ret (v := .agg #[.int .i64 m, .slice a4 len cap4]) (by simp [results, Tryz.f28, go_sem, g0, g1]) rfl ?_
    exact ⟨_, rfl, HO4.out, HB4.out⟩

end Go.Proofs.YtckpacifimpkgacGreat

namespace Go.Proofs.YtckpacifimpkgacGreat
open Go.RowKit
set_option linter.unusedVariables false

set_option maxRecDepth 10000 in
set_option maxHeartbeats 1600000 in
theorem specAt_any (m i : Int) (a : Option Addr) (len ca : Nat) (xs : List Fld) (w : World) (hx : Flds w a len xs) (hl : len ≤ 2097152) (hi2 : i ≤ 9223372036854775807) :
    Calls Tryz.prog 47 #[.agg #[.int .i64 m, .slice a len ca], .int .i64 i] w fun e w' => e = .returned (.tuple #[.agg #[.string (atAns xs i).1.1, .string (atAns xs i).1.2], .bool (atAns xs i).2]) ∧ Below w.heap.size w w' := by
  have HX : Hid (Flds w a len xs) := hx
  have hlen := hx.1
  clear hx
  obtain ⟨w2, hw2⟩ : ∃ w2, (w.alloc (.cells #[.int .i64 m, .slice a len ca] 26)).alloc (.cells #[.string ⟨#[]⟩, .string ⟨#[]⟩] 43) = w2 := ⟨_, rfl⟩
  have hq1 : w2.heap[w.heap.size]? = some (.cells #[.int .i64 m, .slice a len ca] 26 (0, 0)) := by
    rw [← hw2]
    have h1 := heap_alloc_new w (.cells #[.int .i64 m, .slice a len ca] 26)
    have hlt : w.heap.size < (w.alloc (.cells #[.int .i64 m, .slice a len ca] 26)).heap.size := by simp
    exact (((Below.refl _ _).alloc (Nat.le_refl _) (.cells #[.string ⟨#[]⟩, .string ⟨#[]⟩] 43)).block _ hlt).trans h1
  have hq2 : w2.heap[w.heap.size + 1]? = some (.cells #[.string ⟨#[]⟩, .string ⟨#[]⟩] 43 (0, 0)) := by
    rw [← hw2]
    have h1 := heap_alloc_new (w.alloc (.cells #[.int .i64 m, .slice a len ca] 26)) (.cells #[.string ⟨#[]⟩, .string ⟨#[]⟩] 43)
    rw [World.size_alloc] at h1
    exact h1
  have HB2 : Hid (Below w.heap.size w w2) := by show Below _ _ _; rw [← hw2]; exact ((Below.refl _ _).alloc (Nat.le_refl _) _).alloc (by simp) _
  have HW2 : Hid (w2.heap.size = w.heap.size + 2) := by show _ = _; rw [← hw2]; simp
  have HQ2 : Hid (w2.heap[w.heap.size + 1]? = some (.cells #[.string ⟨#[]⟩, .string ⟨#[]⟩] 43 (0, 0))) := hq2
  obtain ⟨c0, c1, _, _⟩ := two_cells hq1
  obtain ⟨g0, g1, g2, g3⟩ := two_cells hq2
  clear hq1 hq2
  by_cases h61 : i ≤ 61
  · have e : atAns xs i = firstAns i := by rw [atAns, if_pos h61]
    rw [e]
    generalize hF : firstAns i = F
    have HF : Hid (firstAns i = F) := hF
    clear e hF
    go_enter Tryz.func47, Tryz.ntmps47
    go_wp2_with fail
    refine (specFF_any i w2).mono ?_
    rintro e w3 ⟨rfl, hb3⟩
    rw [HF.out]
    obtain ⟨k0, k1, k2, k3⟩ := two_cells ((hb3.block _ (by have := HW2.out; omega)).trans HQ2.out)
    have HB3 : Hid (Below w.heap.size w w3) := HB2.out.trans (hb3.mono HB2.out.size)
    clear hb3 g0 g1 g2 g3 c0 c1
    go_wp2_with fail
    refine bodyPost_ret (v := .tuple #[.agg #[.string F.1.1, .string F.1.2], .bool F.2]) (by simp [results, Tryz.f47, go_sem, k0, k1]) rfl ?_
    exact ⟨rfl, (HB3.out.setCell (p := ⟨w.heap.size + 1, 0, none⟩) (by simp) _).setCell (p := ⟨w.heap.size + 1, 1, none⟩) (by simp) _⟩
  · obtain ⟨k, rfl⟩ : ∃ k : Nat, i = (k : Int) + 62 := ⟨(i - 62).toNat, by omega⟩
    have hk62 : ((k : Int) + 62 - 62).toNat = k := by omega
    by_cases hk : k < len
    · obtain ⟨b, off, x, y, rfl, hb, hfx, hc0, hc1⟩ := (HX.out.below HB2.out).at hk
      have e : atAns xs ((k : Int) + 62) = ((x, y), true) := by
        rw [atAns, if_neg h61, hk62, if_pos (by omega), List.getD_eq_getElem?_getD, hfx]
        rfl
      rw [e]
      clear e hfx
      have hki : (k : Int) < (len : Int) := by omega
      have hkb : (k : Int) ≤ 2097152 := by omega
      clear hi2 h61 hk62
      go_enter Tryz.func47, Tryz.ntmps47
      go_wp2_with fail
      refine bodyPost_ret (v := .tuple #[.agg #[.string x, .string y], .bool true]) (by simp [results, Tryz.f47, go_sem, g0, g1]) rfl ?_
      exact ⟨rfl, (HB2.out.setCell (p := ⟨w.heap.size + 1, 0, none⟩) (by simp) _).setCell (p := ⟨w.heap.size + 1, 1, none⟩) (by simp) _⟩
    · have e : atAns xs ((k : Int) + 62) = (fnil, false) := by
        rw [atAns, if_neg h61, hk62, if_neg (by omega)]
      rw [e]
      clear e
      have hki : (len : Int) ≤ (k : Int) := by omega
      have hw : wrap64 (k : Int) = (k : Int) := by unfold wrap64; omega
      have hd : decide ((k : Int) + 62 ≤ 61) = false := by simp; omega
      have hd2 : decide ((len : Int) ≤ (k : Int)) = true := by simp; omega
      clear hi2 h61 hk hk62
      go_enter Tryz.func47, Tryz.ntmps47
      go_wp2_with fail
      refine bodyPost_ret (v := .tuple #[.agg #[.string ⟨#[]⟩, .string ⟨#[]⟩], .bool false]) (by simp [results, Tryz.f47, go_sem, g0, g1]) rfl ?_
      exact ⟨rfl, (HB2.out.setCell (p := ⟨w.heap.size + 1, 0, none⟩) (by simp) _).setCell (p := ⟨w.heap.size + 1, 1, none⟩) (by simp) _⟩

end Go.Proofs.YtckpacifimpkgacGreat

namespace Go.Proofs.YtckpacifimpkgacGreat
open Go.RowKit
set_option linter.unusedVariables false

/-- What is read as a field that is told itself, its number too. -/
def SLit (zs : List Int) (i bits : Int) (xs : List Fld) (x y : ByteArray) (j code : Int) : Prop :=
  ∃ (n p : Int) (ok : Bool), getPfx zs i bits = (n, p, ok) ∧ ((ok = false ∧ code = 1) ∨ (ok = true ∧ ∃ (x' y' : ByteArray) (j1 c1 : Int), LitAns zs p xs n x' y' j1 c1 ∧ code = c1 ∧ (c1 = 0 → x = x' ∧ y = y' ∧ j = j1)))

/-- What l5Literal keeps: the table's variable, the answer's, the field's. -/
def LS (w W : World) (m : Int) (a : Option Addr) (len ca : Nat) (x y : ByteArray) : Prop :=
  Below w.heap.size w W ∧ Box2 W w.heap.size 26 (.int .i64 m) (.slice a len ca) ∧ Box2 W (w.heap.size + 1) 43 (.string ⟨#[]⟩) (.string ⟨#[]⟩) ∧ Box2 W (w.heap.size + 1 + 1) 43 (.string x) (.string y)

theorem LS.stays {w W W' : World} {m : Int} {a : Option Addr} {len ca : Nat} {x y : ByteArray} (h : LS w W m a len ca x y) (hb : Below W.heap.size W W') : LS w W' m a len ca x y :=
  ⟨h.1.trans (hb.mono h.1.size), h.2.1.stays hb, h.2.2.1.stays hb, h.2.2.2.stays hb⟩

theorem LS.name {w W : World} {m : Int} {a : Option Addr} {len ca : Nat} {x y : ByteArray} (h : LS w W m a len ca x y) (t : ByteArray) : LS w (W.setCell ⟨w.heap.size + 1 + 1, 0, none⟩ (.string t)) m a len ca t y :=
  ⟨h.1.setCell (p := ⟨w.heap.size + 1 + 1, 0, none⟩) (by dsimp only; omega) _, (set_block_other _ _ _ _ _ (by omega)).trans h.2.1, (set_block_other _ _ _ _ _ (by omega)).trans h.2.2.1, two_set0 h.2.2.2 _⟩

theorem LS.value {w W : World} {m : Int} {a : Option Addr} {len ca : Nat} {x y : ByteArray} (h : LS w W m a len ca x y) (t : ByteArray) : LS w (W.setCell ⟨w.heap.size + 1 + 1, 1, none⟩ (.string t)) m a len ca x t :=
  ⟨h.1.setCell (p := ⟨w.heap.size + 1 + 1, 1, none⟩) (by dsimp only; omega) _, (set_block_other _ _ _ _ _ (by omega)).trans h.2.1, (set_block_other _ _ _ _ _ (by omega)).trans h.2.2.1, two_set1 h.2.2.2 _⟩

theorem LS.fin {w W : World} {m : Int} {a : Option Addr} {len ca : Nat} {x y : ByteArray} (h : LS w W m a len ca x y) :
    Box2 ((W.setCell ⟨w.heap.size + 1, 0, none⟩ (.string x)).setCell ⟨w.heap.size + 1, 1, none⟩ (.string y)) (w.heap.size + 1) 43 (.string x) (.string y) ∧ Below w.heap.size w ((W.setCell ⟨w.heap.size + 1, 0, none⟩ (.string x)).setCell ⟨w.heap.size + 1, 1, none⟩ (.string y)) :=
  ⟨two_set1 (two_set0 h.2.2.1 _) _, (h.1.setCell (p := ⟨w.heap.size + 1, 0, none⟩) (by dsimp only; omega) _).setCell (p := ⟨w.heap.size + 1, 1, none⟩) (by dsimp only; omega) _⟩

set_option maxRecDepth 10000 in
set_option maxHeartbeats 3200000 in
theorem specLit_any (m : Int) (a : Option Addr) (len ca : Nat) (xs : List Fld) (bb off bl bc : Nat) (zs : List Int) (i bits : Int) (w : World) (hx : Flds w a len xs) (hs : Seg w (some ⟨bb, off, none⟩) bl zs) (hcap : bl ≤ bc) (hl4 : bl ≤ 4000) (hlen : len ≤ 2097152) :
    Calls Tryz.prog 49 #[.agg #[.int .i64 m, .slice a len ca], .slice (some ⟨bb, off, none⟩) bl bc, .int .i64 i, .int .i64 bits] w fun e w' => ∃ (x y : ByteArray) (j code : Int), e = .returned (.tuple #[.agg #[.string x, .string y], .int .i64 j, .int .i64 code]) ∧ SLit zs i bits xs x y j code ∧ Below w.heap.size w w' := by
  have HX : Hid (Flds w a len xs) := hx
  have HS : Hid (Seg w (some ⟨bb, off, none⟩) bl zs) := hs
  have HCap : Hid (bl ≤ bc) := hcap
  clear hx hs hcap
  have HL0 : Hid (LS w (((w.alloc (.cells #[.int .i64 m, .slice a len ca] 26)).alloc (.cells #[.string ⟨#[]⟩, .string ⟨#[]⟩] 43)).alloc (.cells #[.string ⟨#[]⟩, .string ⟨#[]⟩] 43)) m a len ca ⟨#[]⟩ ⟨#[]⟩) := by
    have b1 := Box2.new w 26 (.int .i64 m) (.slice a len ca)
    have b2 := Box2.new (w.alloc (.cells #[.int .i64 m, .slice a len ca] 26)) 43 (.string ⟨#[]⟩) (.string ⟨#[]⟩)
    have b3 := Box2.new ((w.alloc (.cells #[.int .i64 m, .slice a len ca] 26)).alloc (.cells #[.string ⟨#[]⟩, .string ⟨#[]⟩] 43)) 43 (.string ⟨#[]⟩) (.string ⟨#[]⟩)
    rw [World.size_alloc] at b2
    rw [World.size_alloc, World.size_alloc] at b3
    exact ⟨(((Below.refl _ _).alloc (Nat.le_refl _) _).alloc (by simp) _).alloc (by simp; omega) _, (b1.alloc _).alloc _, b2.alloc _, b3⟩
  go_enter Tryz.func49, Tryz.ntmps49
  go_upto_region 2 with fail
  obtain ⟨w3, hw3⟩ : ∃ w3, (((w.alloc (.cells #[.int .i64 m, .slice a len ca] 26)).alloc (.cells #[.string ⟨#[]⟩, .string ⟨#[]⟩] 43)).alloc (.cells #[.string ⟨#[]⟩, .string ⟨#[]⟩] 43)) = w3 := ⟨_, rfl⟩
  rw [hw3] at HL0 ⊢
  clear hw3
  go_wp2_with fail
  refine (specGpx_any _ bl bc i bits zs w3 (HS.out.below HL0.out.1) (by omega)).mono ?_
  rintro e w4 ⟨rfl, hw4⟩
  subst w4
  obtain ⟨⟨n, p, ok⟩, hg⟩ : ∃ x, getPfx zs i bits = x := ⟨_, rfl⟩
  have HG : Hid (getPfx zs i bits = (n, p, ok)) := hg
  rw [hg]
  clear hg
  dsimp only
  cases ok with
  | false =>
    obtain ⟨r0, r1, _, _⟩ := HL0.out.2.2.2.cells
    obtain ⟨s0, s1, s2, s3⟩ := HL0.out.2.2.1.cells
    have HE : Hid _ := HL0.out.fin
    obtain ⟨u0, u1, _, _⟩ := HE.out.1.cells
    go_wp2_with fail
    refine bodyPost_ret (v := .tuple #[.agg #[.string ⟨#[]⟩, .string ⟨#[]⟩], .int .i64 0, .int .i64 1]) (by simp [results, Tryz.f49, go_sem, s0, s1]) rfl ?_
    exact ⟨⟨#[]⟩, ⟨#[]⟩, 0, 1, rfl, ⟨n, p, false, HG.out, .inl ⟨rfl, rfl⟩⟩, HE.out.2⟩
  | true =>
    obtain ⟨hn0, hn1, hi0, hip, hpl⟩ := getPfx_bound zs i bits n p HS.out.2.1 HG.out
    by_cases hz : n = 0
    · subst hz
      obtain ⟨r0, r1, r2, r3⟩ := HL0.out.2.2.2.cells
      go_wp2_with fail
      refine (specGetS_any bb off bl bc p zs w3 (HS.out.below HL0.out.1) HCap.out hl4).mono ?_
      rintro e w5 ⟨x, p1, ok1, rfl, hg1, hb5⟩
      have HG1 : Hid (GetS zs p x p1 ok1) := hg1
      have HL5 : Hid (LS w w5 m a len ca ⟨#[]⟩ ⟨#[]⟩) := HL0.out.stays hb5
      have HL6 : Hid (LS w (w5.setCell ⟨w.heap.size + 1 + 1, 0, none⟩ (.string x)) m a len ca x ⟨#[]⟩) := HL5.out.name x
      obtain ⟨q0, q1, q2, q3⟩ := HL5.out.2.2.2.cells
      clear hg1 hb5 r0 r1 r2 r3 HL0
      cases ok1 with
      | false =>
        go_upto_region 8 with fail
        obtain ⟨w6, hw6⟩ : ∃ w6, w5.setCell ⟨w.heap.size + 1 + 1, 0, none⟩ (.string x) = w6 := ⟨_, rfl⟩
        rw [hw6] at HL6 ⊢
        clear hw6 q0 q1 q2 q3
        obtain ⟨r0, r1, _, _⟩ := HL6.out.2.2.2.cells
        obtain ⟨s0, s1, s2, s3⟩ := HL6.out.2.2.1.cells
        have HE : Hid _ := HL6.out.fin
        obtain ⟨u0, u1, _, _⟩ := HE.out.1.cells
        go_wp2_with fail
        refine bodyPost_ret (v := .tuple #[.agg #[.string x, .string ⟨#[]⟩], .int .i64 0, .int .i64 1]) (by simp [results, Tryz.f49, go_sem, s0, s1]) rfl ?_
        exact ⟨x, ⟨#[]⟩, 0, 1, rfl, ⟨0, p, true, HG.out, .inr ⟨rfl, ⟨#[]⟩, ⟨#[]⟩, _, 1, ⟨x, _, 1, .inl ⟨rfl, p1, false, HG1.out, rfl, rfl⟩, .inl ⟨by decide, rfl, rfl, rfl, rfl⟩⟩, rfl, fun h => by cases h⟩⟩, HE.out.2⟩
      | true =>
        go_upto_region 13 with fail
        obtain ⟨w6, hw6⟩ : ∃ w6, w5.setCell ⟨w.heap.size + 1 + 1, 0, none⟩ (.string x) = w6 := ⟨_, rfl⟩
        rw [hw6] at HL6 ⊢
        clear hw6 q0 q1 q2 q3
        obtain ⟨r0, r1, r2, r3⟩ := HL6.out.2.2.2.cells
        go_wp2_with fail
        refine (specGetS_any bb off bl bc p1 zs w6 (HS.out.below HL6.out.1) HCap.out hl4).mono ?_
        rintro e wv ⟨y, pv, okv, rfl, hgv, hbv⟩
        have HGV : Hid (GetS zs p1 y pv okv) := hgv
        have HV0 : Hid (LS w wv m a len ca x ⟨#[]⟩) := HL6.out.stays hbv
        have HV : Hid (LS w (wv.setCell ⟨w.heap.size + 1 + 1, 1, none⟩ (.string y)) m a len ca x y) := HV0.out.value y
        obtain ⟨q0, q1, q2, q3⟩ := HV0.out.2.2.2.cells
        clear hgv hbv r0 r1 r2 r3
        cases okv with
        | false =>
          go_upto_region 15 with fail
          obtain ⟨wz, hwz⟩ : ∃ wz, wv.setCell ⟨w.heap.size + 1 + 1, 1, none⟩ (.string y) = wz := ⟨_, rfl⟩
          rw [hwz] at HV ⊢
          clear hwz q0 q1 q2 q3
          obtain ⟨r0, r1, _, _⟩ := HV.out.2.2.2.cells
          obtain ⟨s0, s1, s2, s3⟩ := HV.out.2.2.1.cells
          have HE : Hid _ := HV.out.fin
          obtain ⟨u0, u1, _, _⟩ := HE.out.1.cells
          go_wp2_with fail
          refine bodyPost_ret (v := .tuple #[.agg #[.string x, .string y], .int .i64 0, .int .i64 1]) (by simp [results, Tryz.f49, go_sem, s0, s1]) rfl ?_
          exact ⟨x, y, 0, 1, rfl, ⟨0, p, true, HG.out, .inr ⟨rfl, x, y, _, 1, ⟨x, p1, 0, .inl ⟨rfl, p1, true, HG1.out, rfl, rfl⟩, .inr ⟨rfl, rfl, pv, false, HGV.out, rfl, rfl⟩⟩, rfl, fun h => by cases h⟩⟩, HE.out.2⟩
        | true =>
          go_upto_region 16 with fail
          obtain ⟨wz, hwz⟩ : ∃ wz, wv.setCell ⟨w.heap.size + 1 + 1, 1, none⟩ (.string y) = wz := ⟨_, rfl⟩
          rw [hwz] at HV ⊢
          clear hwz q0 q1 q2 q3
          obtain ⟨r0, r1, _, _⟩ := HV.out.2.2.2.cells
          obtain ⟨s0, s1, s2, s3⟩ := HV.out.2.2.1.cells
          have HE : Hid _ := HV.out.fin
          obtain ⟨u0, u1, _, _⟩ := HE.out.1.cells
          go_wp2_with fail
          refine bodyPost_ret (v := .tuple #[.agg #[.string x, .string y], .int .i64 pv, .int .i64 0]) (by simp [results, Tryz.f49, go_sem, s0, s1]) rfl ?_
          exact ⟨x, y, pv, 0, rfl, ⟨0, p, true, HG.out, .inr ⟨rfl, x, y, _, 0, ⟨x, p1, 0, .inl ⟨rfl, p1, true, HG1.out, rfl, rfl⟩, .inr ⟨rfl, rfl, pv, true, HGV.out, rfl, rfl⟩⟩, rfl, fun _ => ⟨rfl, rfl, rfl⟩⟩⟩, HE.out.2⟩
    · have hzb : (n == 0) = false := by simpa using hz
      have HZ : Hid (n ≠ 0) := hz
      obtain ⟨r0, r1, r2, r3⟩ := HL0.out.2.1.cells
      go_wp2_with fail
      refine (specAt_any m n a len ca xs w3 (HX.out.below HL0.out.1) hlen (by omega)).mono ?_
      rintro e w5 ⟨rfl, hb5⟩
      obtain ⟨⟨⟨x, y0⟩, is⟩, hat⟩ : ∃ z, atAns xs n = z := ⟨_, rfl⟩
      have HA : Hid (atAns xs n = ((x, y0), is)) := hat
      rw [hat]
      dsimp only
      have HL6 : Hid (LS w (w5.alloc (.cells #[.string x, .string y0] 43)) m a len ca ⟨#[]⟩ ⟨#[]⟩) := (HL0.out.stays hb5).stays ((Below.refl _ _).alloc (Nat.le_refl _) _)
      have HB6 : Hid (Box2 (w5.alloc (.cells #[.string x, .string y0] 43)) w5.heap.size 43 (.string x) (.string y0)) := Box2.new _ _ _ _
      clear hat hb5 r0 r1 r2 r3 HL0
      cases is with
      | false =>
        go_upto_region 11 with fail
        obtain ⟨w6, hw6⟩ : ∃ w6, w5.alloc (.cells #[.string x, .string y0] 43) = w6 := ⟨_, rfl⟩
        rw [hw6] at HL6 ⊢
        clear hw6 HB6
        obtain ⟨r0, r1, _, _⟩ := HL6.out.2.2.2.cells
        obtain ⟨s0, s1, s2, s3⟩ := HL6.out.2.2.1.cells
        have HE : Hid _ := HL6.out.fin
        obtain ⟨u0, u1, _, _⟩ := HE.out.1.cells
        go_wp2_with fail
        refine bodyPost_ret (v := .tuple #[.agg #[.string ⟨#[]⟩, .string ⟨#[]⟩], .int .i64 0, .int .i64 2]) (by simp [results, Tryz.f49, go_sem, s0, s1]) rfl ?_
        exact ⟨⟨#[]⟩, ⟨#[]⟩, 0, 2, rfl, ⟨n, p, true, HG.out, .inr ⟨rfl, ⟨#[]⟩, ⟨#[]⟩, _, 2, ⟨⟨#[]⟩, _, 2, .inr ⟨HZ.out, rfl, .inr ⟨by rw [HA.out], rfl, rfl⟩⟩, .inl ⟨by decide, rfl, rfl, rfl, rfl⟩⟩, rfl, fun h => by cases h⟩⟩, HE.out.2⟩
      | true =>
        go_upto_region 12 with fail
        obtain ⟨w6, hw6⟩ : ∃ w6, w5.alloc (.cells #[.string x, .string y0] 43) = w6 := ⟨_, rfl⟩
        rw [hw6] at HL6 HB6 ⊢
        clear hw6
        generalize w5.heap.size = bx at *
        have HL7 : Hid (LS w (w6.setCell ⟨w.heap.size + 1 + 1, 0, none⟩ (.string x)) m a len ca x ⟨#[]⟩) := HL6.out.name x
        obtain ⟨q0, q1, q2, q3⟩ := HL6.out.2.2.2.cells
        obtain ⟨t0, t1, _, _⟩ := HB6.out.cells
        go_upto_region 13 with fail
        obtain ⟨w7, hw7⟩ : ∃ w7, w6.setCell ⟨w.heap.size + 1 + 1, 0, none⟩ (.string x) = w7 := ⟨_, rfl⟩
        rw [hw7] at HL7 ⊢
        clear hw7 q0 q1 q2 q3 t0 t1
        obtain ⟨r0, r1, r2, r3⟩ := HL7.out.2.2.2.cells
        go_wp2_with fail
        refine (specGetS_any bb off bl bc p zs w7 (HS.out.below HL7.out.1) HCap.out hl4).mono ?_
        rintro e wv ⟨y, pv, okv, rfl, hgv, hbv⟩
        have HGV : Hid (GetS zs p y pv okv) := hgv
        have HV0 : Hid (LS w wv m a len ca x ⟨#[]⟩) := HL7.out.stays hbv
        have HV : Hid (LS w (wv.setCell ⟨w.heap.size + 1 + 1, 1, none⟩ (.string y)) m a len ca x y) := HV0.out.value y
        obtain ⟨q0, q1, q2, q3⟩ := HV0.out.2.2.2.cells
        clear hgv hbv r0 r1 r2 r3
        cases okv with
        | false =>
          go_upto_region 15 with fail
          obtain ⟨wz, hwz⟩ : ∃ wz, wv.setCell ⟨w.heap.size + 1 + 1, 1, none⟩ (.string y) = wz := ⟨_, rfl⟩
          rw [hwz] at HV ⊢
          clear hwz q0 q1 q2 q3
          obtain ⟨r0, r1, _, _⟩ := HV.out.2.2.2.cells
          obtain ⟨s0, s1, s2, s3⟩ := HV.out.2.2.1.cells
          have HE : Hid _ := HV.out.fin
          obtain ⟨u0, u1, _, _⟩ := HE.out.1.cells
          go_wp2_with fail
          refine bodyPost_ret (v := .tuple #[.agg #[.string x, .string y], .int .i64 0, .int .i64 1]) (by simp [results, Tryz.f49, go_sem, s0, s1]) rfl ?_
          exact ⟨x, y, 0, 1, rfl, ⟨n, p, true, HG.out, .inr ⟨rfl, x, y, _, 1, ⟨x, p, 0, .inr ⟨HZ.out, rfl, .inl ⟨by rw [HA.out], by rw [HA.out], rfl⟩⟩, .inr ⟨rfl, rfl, pv, false, HGV.out, rfl, rfl⟩⟩, rfl, fun h => by cases h⟩⟩, HE.out.2⟩
        | true =>
          go_upto_region 16 with fail
          obtain ⟨wz, hwz⟩ : ∃ wz, wv.setCell ⟨w.heap.size + 1 + 1, 1, none⟩ (.string y) = wz := ⟨_, rfl⟩
          rw [hwz] at HV ⊢
          clear hwz q0 q1 q2 q3
          obtain ⟨r0, r1, _, _⟩ := HV.out.2.2.2.cells
          obtain ⟨s0, s1, s2, s3⟩ := HV.out.2.2.1.cells
          have HE : Hid _ := HV.out.fin
          obtain ⟨u0, u1, _, _⟩ := HE.out.1.cells
          go_wp2_with fail
          refine bodyPost_ret (v := .tuple #[.agg #[.string x, .string y], .int .i64 pv, .int .i64 0]) (by simp [results, Tryz.f49, go_sem, s0, s1]) rfl ?_
          exact ⟨x, y, pv, 0, rfl, ⟨n, p, true, HG.out, .inr ⟨rfl, x, y, _, 0, ⟨x, p, 0, .inr ⟨HZ.out, rfl, .inl ⟨by rw [HA.out], by rw [HA.out], rfl⟩⟩, .inr ⟨rfl, rfl, pv, true, HGV.out, rfl, rfl⟩⟩, rfl, fun _ => ⟨rfl, rfl, rfl⟩⟩⟩, HE.out.2⟩

end Go.Proofs.YtckpacifimpkgacGreat

namespace Go.Proofs.YtckpacifimpkgacGreat
open Go.RowKit
set_option linter.unusedVariables false

set_option maxHeartbeats 400000 in
theorem specOf4_any (x y : ByteArray) (w : World) (hx : x.size + y.size ≤ 2097152) : Calls Tryz.prog 67 #[.agg #[.string x, .string y]] w fun e w' => e = .returned (.int .i64 (x.size + y.size + 32)) ∧ Below w.heap.size w w' := by
  go_enter Tryz.func67, Tryz.ntmps67
  go_wp2
  go_ret
  exact ⟨rfl, (Below.refl _ _).alloc (Nat.le_refl _) _⟩

set_option maxHeartbeats 400000 in
theorem specSize_any (m : Int) (a : Option Addr) (len ca : Nat) (xs : List Fld) (w : World) (hx : Flds w a len xs) (hl : len + fldBytes xs ≤ 2097152) :
    Calls Tryz.prog 45 #[.agg #[.int .i64 m, .slice a len ca]] w fun e w' => e = .returned (.int .i64 (32 * len + fldBytes xs)) ∧ Below w.heap.size w w' := by
  have HX : Hid (Flds w a len xs) := hx
  clear hx
  go_enter Tryz.func45, Tryz.ntmps45
  go_wp2
  generalize hw1 : w.alloc (Obj.cells #[Value.int IntKind.i64 m, Value.slice a len ca] 26) = w1
  have hb1 : Below w.heap.size w w1 := by rw [← hw1]; exact (Below.refl _ _).alloc (Nat.le_refl _) _
  have hs1 : w1.heap.size = w.heap.size + 1 := by rw [← hw1]; simp
  have HC0 : Hid (w1.cell? ⟨w.heap.size, 0, none⟩ = some (.int .i64 m)) := by show _ = _; rw [← hw1]; simp [go_sem]
  have HC1 : Hid (w1.cell? ⟨w.heap.size, 1, none⟩ = some (.slice a len ca)) := by show _ = _; rw [← hw1]; simp [go_sem]
  have HB1 : Hid (Below w.heap.size w w1) := hb1
  have HS1 : Hid (w1.heap.size = w.heap.size + 1) := hs1
  clear hw1 hb1 hs1
  go_loopw [3, 4] (fun v i wr => ∃ (k : Nat) (u : Int), k ≤ len ∧ i = .int .i64 k ∧ v = .int .i64 u ∧ 0 ≤ u ∧ u ≤ 80000000 ∧ Hid (u = 32 * k + fldBytes (xs.take k)) ∧ Hid (Below w1.heap.size w1 wr)) (fun _ i _ => len - (intOf i).toNat)
  case atStart => exact ⟨0, 0, Nat.zero_le _, rfl, rfl, by omega, by omega, by show _ = _; simp [fldBytes], Below.refl _ _⟩
  case round =>
    obtain ⟨k, u, hk, rfl, rfl, hu0, hu1, HU, HW⟩ := hrel
    have g1 : wr.cell? ⟨w.heap.size, 1, none⟩ = some (.slice a len ca) := (HW.out.cell (p := ⟨_, _, none⟩) (by have := HS1.out; dsimp only; omega)).trans HC1.out
    by_cases hlt : k < len
    · obtain ⟨ba, oa, x, y, rfl, hba, hfa, ha0, ha1⟩ := HX.out.at hlt
      have hbw : Below w.heap.size w wr := HB1.out.trans (HW.out.mono HB1.out.size)
      have ga0 : wr.cell? ⟨ba, oa + k * 2, none⟩ = some (.string x) := (hbw.cell (p := ⟨ba, _, none⟩) hba).trans ha0
      have ga1 : wr.cell? ⟨ba, oa + k * 2 + 1, none⟩ = some (.string y) := (hbw.cell (p := ⟨ba, _, none⟩) hba).trans ha1
      have hst := fldBytes_step xs k x y hfa
      have hle := fldBytes_take xs (k + 1)
      have hxy : x.size + y.size ≤ 2097152 := by omega
      have HF : Hid (fldBytes (xs.take (k + 1)) = fldBytes (xs.take k) + (x.size + y.size) ∧ fldBytes (xs.take (k + 1)) ≤ fldBytes xs) := ⟨hst, hle⟩
      clear hfa ha0 ha1 hst hle hbw
      have hki : (k : Int) < (len : Int) := by omega
      have hk0 : (0 : Int) ≤ (k : Int) := by omega
      go_wp2_with fail
      refine (specOf4_any x y _ hxy).mono ?_
      rintro e x3 ⟨rfl, hb3⟩
      have HB3 : Hid (Below w1.heap.size w1 x3) := HW.out.trans (hb3.mono HW.out.size)
      clear hb3
      go_wp2
      go_roundw
      case rel =>
        have h1 := HU.out
        have h2 := HF.out
        exact ⟨k + 1, _, by omega, by go_num, rfl, by omega, by omega, by show _ = _; omega, HB3⟩
      case measure => simp [intOf]; omega
    · go_wp2
      go_ret
      have hkl : k = len := by omega
      have h3 := HU.out
      have h4 := HX.out.1
      rw [List.take_of_length_le (by omega)] at h3
      exact ⟨ret_int (by omega), HB1.out.trans (HW.out.mono HB1.out.size)⟩

end Go.Proofs.YtckpacifimpkgacGreat
