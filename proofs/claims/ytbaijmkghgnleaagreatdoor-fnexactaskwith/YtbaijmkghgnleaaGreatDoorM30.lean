/- The specification's table without its oldest, as far as must be. -/
import Derived.Test.YtbaijmkghgnleaaGreatDoorM10
import Derived.Test.YtbaijmkghgnleaaGreatDoorM29
import Derived.Deep.RegionWith
import Derived.Laws.Tables
namespace Go.Proofs.YtbaijmkghgnleaaGreatDoor
open Go.RowKit
set_option linter.unusedVariables false

/-- The length of the slice in the second cell of a variable. -/
def lenIn (b : Nat) (W : World) : Nat := match W.cell? ⟨b, 1, none⟩ with | some (.slice _ n _) => n | _ => 0

set_option maxRecDepth 10000 in
set_option maxHeartbeats 1600000 in
theorem specFit_any (m : Int) (a : Option Addr) (len ca : Nat) (xs : List Fld) (w : World) (hx : Flds w a len xs) (hm : 0 ≤ m) (hm2 : m ≤ 4096) (hc : len ≤ ca) (hl : len + fldBytes xs ≤ 2097152) :
    Calls Tryz.prog 82 #[.agg #[.int .i64 m, .slice a len ca]] w fun e w' => ∃ k, e = .returned (.agg #[.int .i64 m, .slice a k ca]) ∧ FitN m.toNat xs k ∧ Below w.heap.size w w' := by
  have HX : Hid (Flds w a len xs) := hx
  have hlen := hx.1
  clear hx
  go_enter Tryz.func82, Tryz.ntmps82
  go_wp2_with fail
  obtain ⟨w2, hw2⟩ : ∃ w2, (w.alloc (.cells #[.int .i64 m, .slice a len ca] 32)).alloc (.cells #[.int .i64 0, .slice none 0 0] 32) = w2 := ⟨_, rfl⟩
  have hq1 : w2.heap[w.heap.size]? = some (.cells #[.int .i64 m, .slice a len ca] 32 (0, 0)) := by
    rw [← hw2]
    have h1 := heap_alloc_new w (.cells #[.int .i64 m, .slice a len ca] 32)
    have hlt : w.heap.size < (w.alloc (.cells #[.int .i64 m, .slice a len ca] 32)).heap.size := by simp
    exact (((Below.refl _ _).alloc (Nat.le_refl _) (.cells #[.int .i64 0, .slice none 0 0] 32)).block _ hlt).trans h1
  have hq2 : w2.heap[w.heap.size + 1]? = some (.cells #[.int .i64 0, .slice none 0 0] 32 (0, 0)) := by
    rw [← hw2]
    have h1 := heap_alloc_new (w.alloc (.cells #[.int .i64 m, .slice a len ca] 32)) (.cells #[.int .i64 0, .slice none 0 0] 32)
    simpa using h1
  have HB2 : Hid (Below w.heap.size w w2) := by show Below _ _ _; rw [← hw2]; exact ((Below.refl _ _).alloc (Nat.le_refl _) _).alloc (by simp) _
  have HQ1 : Hid (w2.heap[w.heap.size]? = some (.cells #[.int .i64 m, .slice a len ca] 32 (0, 0))) := hq1
  have HQ2 : Hid (w2.heap[w.heap.size + 1]? = some (.cells #[.int .i64 0, .slice none 0 0] 32 (0, 0))) := hq2
  rw [hw2]
  clear hw2 hq1 hq2
  obtain ⟨h, hh⟩ : ∃ h, w.heap.size = h := ⟨_, rfl⟩
  rw [hh] at HB2 HQ1 HQ2 ⊢
  go_loopw [] (fun wr => ∃ k, k ≤ len ∧ Hid (k = len ∨ m.toNat < szL (xs.take (k + 1))) ∧ Hid (wr.heap[h]? = some (.cells #[.int .i64 m, .slice a k ca] 32 (0, 0))) ∧ Hid (wr.heap[h + 1]? = some (.cells #[.int .i64 0, .slice none 0 0] 32 (0, 0))) ∧ Hid (Below h w wr)) (fun wr => lenIn h wr)
  case atStart => exact ⟨len, Nat.le_refl _, .inl rfl, HQ1, HQ2, HB2⟩
  case round =>
    clear HQ1 HQ2 HB2
    obtain ⟨k, hk, HE, HQ1, HQ2, HB⟩ := hrel
    obtain ⟨c0, c1, f0, f1⟩ := two_cells HQ1.out
    have HC1 : Hid (wr.cell? ⟨h, 1, none⟩ = some (.slice a k ca)) := c1
    have HFk : Hid (Flds wr a k (xs.take k)) := (HX.out.below (by rw [hh]; exact HB.out)).take k hk
    have hsz : 32 * k + fldBytes (xs.take k) = szL (xs.take k) := by
      unfold szL
      rw [List.length_take, Nat.min_eq_left (by omega)]
    have hfb := fldBytes_take xs k
    have hlk : k + fldBytes (xs.take k) ≤ 2097152 := by omega
    have HSz : Hid (32 * k + fldBytes (xs.take k) = szL (xs.take k)) := hsz
    have hsm : 32 * (k : Int) + (fldBytes (xs.take k) : Int) ≤ 70000000 := by omega
    have HSp : Hid (∀ W, Flds W a k (xs.take k) → Calls Tryz.prog 42 #[.agg #[.int .i64 m, .slice a k ca]] W fun e w' => e = .returned (.int .i64 (32 * (k : Int) + (fldBytes (xs.take k) : Int))) ∧ Below W.heap.size W w') := fun W hW => specSize_any m a k ca (xs.take k) W hW hlk
    generalize fldBytes (xs.take k) = fb at *
    clear hsz hfb
    have hh1 : h < wr.heap.size := (Array.getElem?_eq_some_iff.1 HQ1.out).1
    have HT : Hid (∀ W : World, Below wr.heap.size wr W → W.heap[h]? = some (.cells #[.int .i64 m, .slice a k ca] 32 (0, 0)) ∧ W.heap[h + 1]? = some (.cells #[.int .i64 0, .slice none 0 0] 32 (0, 0)) ∧ Below h w W) := fun W hW =>
      ⟨(hW.block h hh1).trans HQ1.out, (hW.block (h + 1) (Array.getElem?_eq_some_iff.1 HQ2.out).1).trans HQ2.out, HB.out.trans (hW.mono (by omega))⟩
    go_wp2_with fail
    go_region_with (first
      | (go_at_call 42; refine (HSp.out _ (HFk.out.below (Below.refl _ _).drew)).mono ?_; rintro e x2 ⟨rfl, hb2⟩; have hb2' : Below wr.heap.size wr x2 := (Below.refl wr.heap.size wr).drew.trans (hb2.mono (Nat.le_refl _)); obtain ⟨k0, k1, k2, k3⟩ := two_cells (HT.out _ hb2').1))
    all_goals
      obtain ⟨t1, t2, t3⟩ := HT.out _ hb2'
      have HQ1' : Hid (x2.heap[h]? = some (.cells #[.int .i64 m, .slice a k ca] 32 (0, 0))) := t1
      have HQ2' : Hid (x2.heap[h + 1]? = some (.cells #[.int .i64 0, .slice none 0 0] 32 (0, 0))) := t2
      have HB' : Hid (Below h w x2) := t3
      clear t1 t2 t3 hb2 hb2' c0 c1 f0 f1
      by_cases hgt : m < 32 * (k : Int) + (fb : Int)
      · obtain ⟨j, rfl⟩ : ∃ j, k = j + 1 := by
          refine ⟨k - 1, ?_⟩
          rcases Nat.eq_zero_or_pos k with hk0 | hk0
          · exfalso
            subst hk0
            have := HSz.out
            rw [List.take_zero, szL_nil] at this
            omega
          · omega
        have HE2 : Hid (j = len ∨ m.toNat < szL (xs.take (j + 1))) := by
          show _ ∨ _
          right
          have := HSz.out
          omega
        have hj : ((j + 1 : Nat) : Int) - 1 = (j : Int) := by omega
        have hji : (j : Int) ≤ (ca : Int) := by omega
        go_wp2_with fail
        go_roundw
        case rel => exact ⟨j, by omega, HE2, two_set1 HQ1'.out _, (set_block_other _ _ _ _ _ (by omega)).trans HQ2'.out, HB'.out.setCell (p := ⟨h, 1, none⟩) (Nat.le_refl _) _⟩
        case measure =>
          have e1 : lenIn h wr = j + 1 := by simp [lenIn, HC1.out]
          have e2 := (two_cells (two_set1 HQ1'.out (.slice a j ca))).2.1
          have e3 : lenIn h (x2.setCell ⟨h, 1, none⟩ (.slice a j ca)) = j := by simp [lenIn, e2]
          omega
      · have HFit : Hid (FitN m.toNat xs k) := by
          refine ⟨by omega, ?_, ?_⟩
          · have := HSz.out
            omega
          · rw [hlen]
            exact HE.out
        obtain ⟨g0, g1, g2, g3⟩ := two_cells HQ2'.out
        go_wp2_with fail
        refine bodyPost_ret (v := .agg #[.int .i64 m, .slice a k ca]) (by simp [results, Tryz.f82, go_sem, g0, g1]) rfl ?_
        refine ⟨k, rfl, HFit.out, ?_⟩
        first
          | exact (HB'.out.setCell (p := ⟨h + 1, 0, none⟩) (by dsimp only; omega) _).setCell (p := ⟨h + 1, 1, none⟩) (by dsimp only; omega) _
          | (rw [hh]; exact (HB'.out.setCell (p := ⟨h + 1, 0, none⟩) (by dsimp only; omega) _).setCell (p := ⟨h + 1, 1, none⟩) (by dsimp only; omega) _)

end Go.Proofs.YtbaijmkghgnleaaGreatDoor
