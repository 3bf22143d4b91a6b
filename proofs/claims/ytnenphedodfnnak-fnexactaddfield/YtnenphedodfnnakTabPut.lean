/- The specification's AddField and Resize. -/
import Derived.Test.YtnenphedodfnnakTabAdd
import Derived.Test.YtnenphedodfnnakTabCopy
import Derived.Test.YtnenphedodfnnakTabOk
namespace Go.Proofs.Ytnenphedodfnnak
open Go.RowKit
set_option linter.unusedVariables false

set_option maxRecDepth 10000 in
set_option maxHeartbeats 1600000 in
theorem specAddF_any (m : Int) (a : Option Addr) (len ca : Nat) (xs : List Fld) (x y : ByteArray) (w : World) (hx : Flds w a len xs) (hf : x.size ≤ maxLen ∧ y.size ≤ maxLen) (hl : 1 + len + (x.size + y.size) + fldBytes xs ≤ 2097152) :
    Calls Try.prog 17 #[.agg #[.int .i64 m, .slice a len ca], .agg #[.string x, .string y]] w fun e w' => ∃ v n ys, e = .returned (.agg #[.int .i64 m, v]) ∧ AddAns m xs (x, y) ys ∧ OwnF w' w.heap.size v n ys ∧ Below w.heap.size w w' := by
  have HX : Hid (Flds w a len xs) := hx
  clear hx
  go_enter Try.func17, Try.ntmps17
  go_wp2_with fail
  obtain ⟨w3, hw3⟩ : ∃ w3, ((w.alloc (.cells #[.int .i64 m, .slice a len ca] 29)).alloc (.cells #[.string x, .string y] 38)).alloc (.cells #[.int .i64 0, .slice none 0 0] 29) = w3 := ⟨_, rfl⟩
  have hq1 : w3.heap[w.heap.size]? = some (.cells #[.int .i64 m, .slice a len ca] 29 (0, 0)) := by
    rw [← hw3]
    exact kept_alloc (kept_alloc (heap_alloc_new w _) _) _
  have hq2 : w3.heap[w.heap.size + 1]? = some (.cells #[.string x, .string y] 38 (0, 0)) := by
    rw [← hw3]
    have h1 := kept_alloc (heap_alloc_new (w.alloc (.cells #[.int .i64 m, .slice a len ca] 29)) (.cells #[.string x, .string y] 38)) (.cells #[.int .i64 0, .slice none 0 0] 29)
    rw [World.size_alloc] at h1
    exact h1
  have hq3 : w3.heap[w.heap.size + 1 + 1]? = some (.cells #[.int .i64 0, .slice none 0 0] 29 (0, 0)) := by
    rw [← hw3]
    have h1 := heap_alloc_new ((w.alloc (.cells #[.int .i64 m, .slice a len ca] 29)).alloc (.cells #[.string x, .string y] 38)) (.cells #[.int .i64 0, .slice none 0 0] 29)
    rw [World.size_alloc, World.size_alloc] at h1
    exact h1
  have HB3 : Hid (Below w.heap.size w w3) := by show Below _ _ _; rw [← hw3]; exact (((Below.refl _ _).alloc (Nat.le_refl _) _).alloc (by simp) _).alloc (by simp; omega) _
  have HW3 : Hid (w3.heap.size = w.heap.size + 3) := by show _ = _; rw [← hw3]; simp
  have HT : Hid (∀ W, Below w3.heap.size w3 W → W.heap[w.heap.size]? = some (.cells #[.int .i64 m, .slice a len ca] 29 (0, 0)) ∧ W.heap[w.heap.size + 1]? = some (.cells #[.string x, .string y] 38 (0, 0)) ∧ W.heap[w.heap.size + 1 + 1]? = some (.cells #[.int .i64 0, .slice none 0 0] 29 (0, 0)) ∧ Below w.heap.size w W ∧ Flds W a len xs ∧ w.heap.size + 3 ≤ W.heap.size) := by
    intro W hW
    have h3 := HW3.out
    have hb := HB3.out.trans (hW.mono HB3.out.size)
    exact ⟨(hW.block _ (by omega)).trans hq1, (hW.block _ (by omega)).trans hq2, (hW.block _ (by omega)).trans hq3, hb, HX.out.below hb, by have := hW.size; omega⟩
  obtain ⟨c0, c1, _, _⟩ := two_cells hq1
  have hF3 := (HT.out w3 (Below.refl _ _)).2.2.2.2.1
  rw [hw3]
  clear hw3 hq1 hq2 hq3 c0 c1
  refine (specOk_any m a len ca xs w3 hF3 (by omega)).mono ?_
  rintro e w4 ⟨rfl, hb4⟩
  obtain ⟨t1, t2, t3, t4, t5, t6⟩ := HT.out w4 hb4
  have HT4 : Hid (∀ W, Below w4.heap.size w4 W → W.heap[w.heap.size + 1 + 1]? = some (.cells #[.int .i64 0, .slice none 0 0] 29 (0, 0)) ∧ Below w.heap.size w W) := fun W hW => ⟨(hW.block _ (by omega)).trans t3, t4.trans (hW.mono t4.size)⟩
  have HF4 : Hid (Flds w4 a len xs) := t5
  have HS4 : Hid (w.heap.size + 3 ≤ w4.heap.size) := t6
  obtain ⟨c0, c1, _, _⟩ := two_cells t1
  obtain ⟨c2, c3, _, _⟩ := two_cells t2
  clear t1 t2 t3 t4 t5 t6 hF3 hb4
  cases hok : okT m xs with
  | false =>
    have HOk : Hid (okT m xs = false) := hok
    clear hok
    go_wp2_with fail
    refine (specCopy_any m a len ca xs w4 HF4.out (by omega)).mono ?_
    rintro e w5 ⟨v, rfl, hof, hb5⟩
    obtain ⟨a5, cap5, rfl⟩ := hof.shape
    obtain ⟨u1, u2⟩ := HT4.out w5 hb5
    obtain ⟨g0, g1, g2, g3⟩ := two_cells u1
    have hs4 := HS4.out
    have HO5 : Hid (OwnF ((w5.setCell ⟨w.heap.size + 1 + 1, 0, none⟩ (.int .i64 m)).setCell ⟨w.heap.size + 1 + 1, 1, none⟩ (.slice a5 len cap5)) w.heap.size (.slice a5 len cap5) len xs) :=
      ⟨own_down (ownsRow_setCell_below (ownsRow_setCell_below hof.1 (a := ⟨w.heap.size + 1 + 1, 0, none⟩) (by dsimp only; omega) _) (a := ⟨w.heap.size + 1 + 1, 1, none⟩) (by dsimp only; omega) _) (by omega), hof.2⟩
    have HB5 : Hid (Below w.heap.size w ((w5.setCell ⟨w.heap.size + 1 + 1, 0, none⟩ (.int .i64 m)).setCell ⟨w.heap.size + 1 + 1, 1, none⟩ (.slice a5 len cap5))) :=
      (u2.setCell (p := ⟨w.heap.size + 1 + 1, 0, none⟩) (by dsimp only; omega) _).setCell (p := ⟨w.heap.size + 1 + 1, 1, none⟩) (by dsimp only; omega) _
    clear hof hb5 u1 u2 hs4
    go_wp2_with fail
    refine bodyPost_ret (v := .agg #[.int .i64 m, .slice a5 len cap5]) (by simp [results, Try.f17, go_sem, g0, g1]) rfl ?_
    exact ⟨_, len, xs, rfl, .inr ⟨HOk.out, rfl⟩, HO5.out, HB5.out⟩
  | true =>
    have HOk : Hid (okT m xs = true) := hok
    obtain ⟨hm, hm2⟩ := okT_range hok
    clear hok
    go_wp2_with fail
    refine (specAdd4_any m a len ca xs x y w4 HF4.out hm hm2 hf hl).mono ?_
    rintro e w5 ⟨v, k, rfl, hfit, hof, hb5⟩
    obtain ⟨a5, cap5, rfl⟩ := hof.shape
    obtain ⟨u1, u2⟩ := HT4.out w5 hb5
    obtain ⟨g0, g1, g2, g3⟩ := two_cells u1
    have hs4 := HS4.out
    have HO5 : Hid (OwnF ((w5.setCell ⟨w.heap.size + 1 + 1, 0, none⟩ (.int .i64 m)).setCell ⟨w.heap.size + 1 + 1, 1, none⟩ (.slice a5 k cap5)) w.heap.size (.slice a5 k cap5) k (((x, y) :: xs).take k)) :=
      ⟨own_down (ownsRow_setCell_below (ownsRow_setCell_below hof.1 (a := ⟨w.heap.size + 1 + 1, 0, none⟩) (by dsimp only; omega) _) (a := ⟨w.heap.size + 1 + 1, 1, none⟩) (by dsimp only; omega) _) (by omega), hof.2⟩
    have HB5 : Hid (Below w.heap.size w ((w5.setCell ⟨w.heap.size + 1 + 1, 0, none⟩ (.int .i64 m)).setCell ⟨w.heap.size + 1 + 1, 1, none⟩ (.slice a5 k cap5))) :=
      (u2.setCell (p := ⟨w.heap.size + 1 + 1, 0, none⟩) (by dsimp only; omega) _).setCell (p := ⟨w.heap.size + 1 + 1, 1, none⟩) (by dsimp only; omega) _
    have HFit : Hid (FitN m.toNat ((x, y) :: xs) k) := hfit
    clear hof hb5 u1 u2 hs4 hfit
    go_wp2_with fail
    refine bodyPost_ret (v := .agg #[.int .i64 m, .slice a5 k cap5]) (by simp [results, Try.f17, go_sem, g0, g1]) rfl ?_
    exact ⟨_, k, _, rfl, .inl ⟨HOk.out, k, HFit.out, rfl⟩, HO5.out, HB5.out⟩

end Go.Proofs.Ytnenphedodfnnak
