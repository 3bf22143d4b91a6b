/- The specification's Resize. -/
import Derived.Test.YtnenphedodfnnakTabPut
import Derived.OneCell
namespace Go.Proofs.Ytnenphedodfnnak
open Go.RowKit
set_option linter.unusedVariables false

set_option maxRecDepth 10000 in
set_option maxHeartbeats 1600000 in
theorem specRes_any (m n : Int) (a : Option Addr) (len ca : Nat) (xs : List Fld) (w : World) (hx : Flds w a len xs) (hl : len + fldBytes xs ≤ 2097152) :
    Calls Try.prog 22 #[.agg #[.int .i64 m, .slice a len ca], .int .i64 n] w fun e w' => ∃ v m' k ys, e = .returned (.agg #[.int .i64 m', v]) ∧ CutAns m n xs m' ys ∧ OwnF w' w.heap.size v k ys ∧ Below w.heap.size w w' := by
  have HX : Hid (Flds w a len xs) := hx
  have hlen := hx.1
  clear hx
  go_enter Try.func22, Try.ntmps22
  go_wp2_with fail
  obtain ⟨w2, hw2⟩ : ∃ w2, (w.alloc (.cells #[.int .i64 m, .slice a len ca] 29)).alloc (.cells #[.int .i64 0, .slice none 0 0] 29) = w2 := ⟨_, rfl⟩
  have hq1 : w2.heap[w.heap.size]? = some (.cells #[.int .i64 m, .slice a len ca] 29 (0, 0)) := by
    rw [← hw2]
    exact kept_alloc (heap_alloc_new w _) _
  have hq2 : w2.heap[w.heap.size + 1]? = some (.cells #[.int .i64 0, .slice none 0 0] 29 (0, 0)) := by
    rw [← hw2]
    have h1 := heap_alloc_new (w.alloc (.cells #[.int .i64 m, .slice a len ca] 29)) (.cells #[.int .i64 0, .slice none 0 0] 29)
    rw [World.size_alloc] at h1
    exact h1
  have HB2 : Hid (Below w.heap.size w w2) := by show Below _ _ _; rw [← hw2]; exact ((Below.refl _ _).alloc (Nat.le_refl _) _).alloc (by simp) _
  have HW2 : Hid (w2.heap.size = w.heap.size + 2) := by show _ = _; rw [← hw2]; simp
  rw [hw2]
  clear hw2
  refine (specCopy_any m a len ca xs w2 (HX.out.below HB2.out) (by omega)).mono ?_
  rintro e w3 ⟨v, rfl, hof, hb3⟩
  obtain ⟨a3, cap3, rfl⟩ := hof.shape
  have hs2 := HW2.out
  have hr1 : w3.heap[w.heap.size]? = some (.cells #[.int .i64 m, .slice a len ca] 29 (0, 0)) := (hb3.block _ (by omega)).trans hq1
  have hr2 : w3.heap[w.heap.size + 1]? = some (.cells #[.int .i64 0, .slice none 0 0] 29 (0, 0)) := (hb3.block _ (by omega)).trans hq2
  have hB3 : Below w.heap.size w w3 := HB2.out.trans (hb3.mono HB2.out.size)
  obtain ⟨W4, hW4⟩ : ∃ W4, w3.alloc (.cells #[.int .i64 m, .slice a3 len cap3] 29) = W4 := ⟨_, rfl⟩
  have HT : Hid (∀ W, Below W4.heap.size W4 W → W.heap[w.heap.size]? = some (.cells #[.int .i64 m, .slice a len ca] 29 (0, 0)) ∧ W.heap[w.heap.size + 1]? = some (.cells #[.int .i64 0, .slice none 0 0] 29 (0, 0)) ∧ W.heap[w3.heap.size]? = some (.cells #[.int .i64 m, .slice a3 len cap3] 29 (0, 0)) ∧ Below w.heap.size w W ∧ Flds W a len xs ∧ OwnF W w2.heap.size (.slice a3 len cap3) len xs) := by
    intro W hW
    have k1 : W4.heap.size = w3.heap.size + 1 := by rw [← hW4]; simp
    have k2 := hb3.size
    have hb4 : Below w3.heap.size w3 W4 := by rw [← hW4]; exact (Below.refl _ _).alloc (Nat.le_refl _) _
    have hb : Below w3.heap.size w3 W := hb4.trans (hW.mono (by omega))
    have hbw := hB3.trans (hb.mono (by omega))
    refine ⟨(hb.block _ (by omega)).trans hr1, (hb.block _ (by omega)).trans hr2, ?_, hbw, HX.out.below hbw, own_stays hof.1 hb, hof.2⟩
    rw [hW.block _ (by omega), ← hW4]
    exact heap_alloc_new w3 _
  have HS3 : Hid (w.heap.size + 2 ≤ w3.heap.size) := by show _ ≤ _; have := hb3.size; omega
  have HW24 : Hid (w2.heap.size = w.heap.size + 2) := hs2
  have HOk : Hid (∀ W, Flds W a len xs → Calls Try.prog 14 #[.agg #[.int .i64 m, .slice a len ca]] W fun e w' => e = .returned (.bool (okT m xs)) ∧ Below W.heap.size W w') := fun W hW => specOk_any m a len ca xs W hW hl
  obtain ⟨b0, b1, _, _⟩ := two_cells (HT.out W4 (Below.refl _ _)).1
  have HF4 : Hid (Flds W4 a len xs) := (HT.out W4 (Below.refl _ _)).2.2.2.2.1
  clear hq1 hq2 hr1 hr2 hb3 hof hB3 hs2
  have HW4 : Hid (w3.alloc (.cells #[.int .i64 m, .slice a3 len cap3] 29) = W4) := hW4
  go_wp2_with fail
  refine (HOk.out W4 HF4.out).mono ?_
  rintro e w5 ⟨rfl, hb5⟩
  obtain ⟨t1, t2, t3, t4, t5, t6⟩ := HT.out w5 hb5
  clear hW4 b0 b1 HF4 HT HW4
  obtain ⟨b0, b1, b2, b3⟩ := two_cells t2
  obtain ⟨d0, d1, d2, d3⟩ := two_cells t3
  have HB5 : Hid (Below w.heap.size w w5) := t4
  have HO5 : Hid (OwnF w5 w2.heap.size (.slice a3 len cap3) len xs) := t6
  have HQ : Hid (w5.heap[w.heap.size + 1]? = some (.cells #[.int .i64 0, .slice none 0 0] 29 (0, 0)) ∧ w5.heap[w3.heap.size]? = some (.cells #[.int .i64 m, .slice a3 len cap3] 29 (0, 0))) := ⟨t2, t3⟩
  clear t1 t2 t3 t4 t5 t6 hb5
  have hend : ∀ (W : World) (vm : Int) (k : Nat) (ys : List Fld), CutAns m n xs vm ys → OwnF W w2.heap.size (.slice a3 k cap3) k ys → Below w.heap.size w W → ∃ v m' k' zs, Ending.returned (.agg #[.int .i64 vm, .slice a3 k cap3]) = .returned (.agg #[.int .i64 m', v]) ∧ CutAns m n xs m' zs ∧ OwnF ((W.setCell ⟨w.heap.size + 1, 0, none⟩ (.int .i64 vm)).setCell ⟨w.heap.size + 1, 1, none⟩ (.slice a3 k cap3)) w.heap.size v k' zs ∧ Below w.heap.size w ((W.setCell ⟨w.heap.size + 1, 0, none⟩ (.int .i64 vm)).setCell ⟨w.heap.size + 1, 1, none⟩ (.slice a3 k cap3)) := by
    intro W vm k ys h1 h2 h3
    have h4 := HW24.out
    exact ⟨_, vm, k, ys, rfl, h1, ⟨own_down (ownsRow_setCell_below (ownsRow_setCell_below h2.1 (a := ⟨w.heap.size + 1, 0, none⟩) (by dsimp only; omega) _) (a := ⟨w.heap.size + 1, 1, none⟩) (by dsimp only; omega) _) (by omega), h2.2⟩, (h3.setCell (p := ⟨w.heap.size + 1, 0, none⟩) (by dsimp only; omega) _).setCell (p := ⟨w.heap.size + 1, 1, none⟩) (by dsimp only; omega) _⟩
  have HEnd : Hid (∀ (W : World) (vm : Int) (k : Nat) (ys : List Fld), CutAns m n xs vm ys → OwnF W w2.heap.size (.slice a3 k cap3) k ys → Below w.heap.size w W → ∃ v m' k' zs, Ending.returned (.agg #[.int .i64 vm, .slice a3 k cap3]) = .returned (.agg #[.int .i64 m', v]) ∧ CutAns m n xs m' zs ∧ OwnF ((W.setCell ⟨w.heap.size + 1, 0, none⟩ (.int .i64 vm)).setCell ⟨w.heap.size + 1, 1, none⟩ (.slice a3 k cap3)) w.heap.size v k' zs ∧ Below w.heap.size w ((W.setCell ⟨w.heap.size + 1, 0, none⟩ (.int .i64 vm)).setCell ⟨w.heap.size + 1, 1, none⟩ (.slice a3 k cap3))) := hend
  clear hend
  cases hok : okT m xs with
  | false =>
    have HCut : Hid (CutAns m n xs m xs) := .inr ⟨fun h => by rw [hok] at h; exact absurd h.1 (by simp), rfl, rfl⟩
    clear hok HOk
    go_wp2_with fail
    refine bodyPost_ret (v := .agg #[.int .i64 m, .slice a3 len cap3]) (by simp [results, Try.f22, go_sem, b0, b1]) rfl ?_
    exact HEnd.out w5 m len xs HCut.out HO5.out HB5.out
  | true =>
    by_cases hin : 0 ≤ n ∧ n ≤ 4096
    · have HYes : Hid (okT m xs = true ∧ 0 ≤ n ∧ n ≤ 4096) := ⟨hok, hin.1, hin.2⟩
      obtain ⟨h0, h1⟩ := hin
      clear hok HOk
      go_wp2_with fail
      refine (tin_yes _ _ _ _ h0 h1).mono ?_
      rintro e w6 ⟨rfl, rfl⟩
      go_wp2_with fail
      have hn1 := own_other' HO5.out.1 HQ.out.2 (by decide)
      have ho7 : OwnF (w6.setCell ⟨w3.heap.size, 0, none⟩ (.int .i64 n)) w2.heap.size (.slice a3 len cap3) len xs := ⟨ownsRow_setCell_other HO5.out.1 (a := ⟨w3.heap.size, 0, none⟩) hn1 _, HO5.out.2⟩
      have hs3 := HS3.out
      have hq7 : (w6.setCell ⟨w3.heap.size, 0, none⟩ (.int .i64 n)).heap[w.heap.size + 1]? = some (.cells #[.int .i64 0, .slice none 0 0] 29 (0, 0)) := (set_block_other _ _ _ _ _ (by omega)).trans HQ.out.1
      have hb7 : Below w.heap.size w (w6.setCell ⟨w3.heap.size, 0, none⟩ (.int .i64 n)) := HB5.out.setCell (p := ⟨w3.heap.size, 0, none⟩) (by dsimp only; omega) _
      have HO7 : Hid (OwnF (w6.setCell ⟨w3.heap.size, 0, none⟩ (.int .i64 n)) w2.heap.size (.slice a3 len cap3) len xs) := ho7
      have HT7 : Hid ((w6.setCell ⟨w3.heap.size, 0, none⟩ (.int .i64 n)).heap[w.heap.size + 1]? = some (.cells #[.int .i64 0, .slice none 0 0] 29 (0, 0)) ∧ Below w.heap.size w (w6.setCell ⟨w3.heap.size, 0, none⟩ (.int .i64 n))) := ⟨hq7, hb7⟩
      generalize w6.setCell ⟨w3.heap.size, 0, none⟩ (.int .i64 n) = w7 at *
      clear ho7 hq7 hb7 hn1 hs3 b0 b1 b2 b3 d0 d1 d2 d3
      refine (specFit_any n a3 len cap3 xs w7 HO7.out.flds h0 h1 (own_cap HO7.out.1) hl).mono ?_
      rintro e w8 ⟨k, rfl, hfit, hb8⟩
      have hfk := hfit.1
      rw [hlen] at hfk
      have hlt : w.heap.size + 1 < w7.heap.size := (Array.getElem?_eq_some_iff.1 HT7.out.1).1
      have HCut : Hid (CutAns m n xs n (xs.take k)) := .inl ⟨HYes.out, rfl, k, hfit, rfl⟩
      have HO8 : Hid (OwnF w8 w2.heap.size (.slice a3 k cap3) k (xs.take k)) := OwnF.cut ⟨own_stays HO7.out.1 hb8, HO7.out.2⟩ k hfk
      have HB8 : Hid (Below w.heap.size w w8) := HT7.out.2.trans (hb8.mono HT7.out.2.size)
      obtain ⟨b0, b1, b2, b3⟩ := two_cells ((hb8.block _ hlt).trans HT7.out.1)
      clear hfit hb8 hfk hlt
      go_wp2_with fail
      refine bodyPost_ret (v := .agg #[.int .i64 n, .slice a3 k cap3]) (by simp [results, Try.f22, go_sem, b0, b1]) rfl ?_
      exact HEnd.out w8 n k (xs.take k) HCut.out HO8.out HB8.out
    · have HNo : Hid (n < 0 ∨ 4096 < n) := by show _ ∨ _; omega
      have HCut : Hid (CutAns m n xs m xs) := .inr ⟨fun h => hin h.2, rfl, rfl⟩
      clear hok HOk hin
      go_wp2_with fail
      refine (tin_no _ _ _ _ HNo.out).mono ?_
      rintro e w6 ⟨rfl, rfl⟩
      go_wp2_with fail
      refine bodyPost_ret (v := .agg #[.int .i64 m, .slice a3 len cap3]) (by simp [results, Try.f22, go_sem, b0, b1]) rfl ?_
      exact HEnd.out _ m len xs HCut.out HO5.out HB5.out

end Go.Proofs.Ytnenphedodfnnak
