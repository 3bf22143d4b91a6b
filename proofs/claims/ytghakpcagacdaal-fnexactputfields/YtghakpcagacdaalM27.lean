/- The program's Resize. -/
import Derived.Test.YtghakpcagacdaalM24
import Derived.Test.YtghakpcagacdaalM25
import Derived.Test.YtghakpcagacdaalM26
namespace Go.Proofs.Ytghakpcagacdaal
open Go.RowKit
set_option linter.unusedVariables false

theorem okT_few {m : Int} {xs : List Fld} (h : okT m xs = true) : xs.length ≤ 128 ∧ szL xs ≤ 4096 ∧ 0 ≤ m ∧ m ≤ 4096 ∧ (szL xs : Int) ≤ m := by
  have h1 : 0 ≤ m ∧ m ≤ 4096 ∧ (szL xs : Int) ≤ m := of_decide_eq_true h
  have h2 : 32 * xs.length ≤ szL xs := by unfold szL; omega
  omega

theorem Left.fit {n : Int} {xs : List Fld} {k : Nat} (h : Left n xs k) (h0 : 0 ≤ n) : FitN n.toNat xs k := by
  obtain ⟨h1, h2, h3⟩ := h
  refine ⟨h1, ?_, ?_⟩
  · rcases h2 with rfl | h2
    · simp [szL, fldBytes]
    · omega
  · rcases h3 with h3 | h3
    · exact .inl h3
    · exact .inr (by omega)

theorem ret_tab {w : World} {b : Nat} {t : TypeId} {x y : Value} (h : Box2 w b t x y) : w.cell? ⟨b, 0, none⟩ = some x ∧ w.cell? ⟨b, 1, none⟩ = some y := ⟨h.cells.1, h.cells.2.1⟩

set_option maxRecDepth 10000 in
set_option maxHeartbeats 1600000 in
theorem implRes_any (m n : Int) (a : Option Addr) (len ca : Nat) (xs : List Fld) (w : World) (hx : Flds w a len xs) (hl : len + fldBytes xs ≤ 2097152) :
    Calls Try.prog 112 #[.agg #[.int .i64 m, .slice a len ca], .int .i64 n] w fun e w' => ∃ v m' k ys, e = .returned (.agg #[.int .i64 m', v]) ∧ CutAns m n xs m' ys ∧ OwnF w' w.heap.size v k ys ∧ Below w.heap.size w w' := by
  have HX : Hid (Flds w a len xs) := hx
  have hlen := hx.1
  clear hx
  obtain ⟨w2, hw2⟩ : ∃ w2, (w.alloc (.cells #[.int .i64 m, .slice a len ca] 40)).alloc (.cells #[.int .i64 0, .slice none 0 0] 40) = w2 := ⟨_, rfl⟩
  have q1 : Box2 w2 w.heap.size 40 (.int .i64 m) (.slice a len ca) := by rw [← hw2]; exact (Box2.new _ _ _ _).alloc _
  have q2 : Box2 w2 (w.heap.size + 1) 40 (.int .i64 0) (.slice none 0 0) := by
    rw [← hw2]
    have := Box2.new (w.alloc (.cells #[.int .i64 m, .slice a len ca] 40)) 40 (.int .i64 0) (.slice none 0 0)
    rwa [World.size_alloc] at this
  have HB2 : Hid (Below w.heap.size w w2) := by show Below _ _ _; rw [← hw2]; exact ((Below.refl _ _).alloc (Nat.le_refl _) _).alloc (by simp) _
  have HW2 : Hid (w2.heap.size = w.heap.size + 2) := by show _ = _; rw [← hw2]; simp
  have HQ : Hid (∀ W, Below w2.heap.size w2 W → Box2 W w.heap.size 40 (.int .i64 m) (.slice a len ca) ∧ Box2 W (w.heap.size + 1) 40 (.int .i64 0) (.slice none 0 0) ∧ Flds W a len xs ∧ Below w.heap.size w W) := fun W h =>
    have hb := HB2.out.trans (h.mono HB2.out.size)
    ⟨q1.stays h, q2.stays h, HX.out.below hb, hb⟩
  obtain ⟨c0, c1, _, _⟩ := q1.cells
  clear q1 q2
  go_enter Try.func112, Try.ntmps112
  go_wp2_with fail
  refine (implOk_any m a len ca xs _ (HQ.out _ (Below.refl _ _)).2.2.1 hl).mono ?_
  rintro e w3 ⟨rfl, hb3⟩
  have HB3 : Hid (Below w2.heap.size w2 w3) := hb3
  obtain ⟨d0, d1, _, _⟩ := (HQ.out _ hb3).1.cells
  clear hb3 c0 c1 hw2
  have HC : Hid (∀ (v : Value) (k : Nat) (W : World) (ys : List Fld) (m' : Int) (base : Nat), Below w2.heap.size w2 W → w2.heap.size ≤ base → OwnF W base v k ys → Below w.heap.size w ((W.setCell ⟨w.heap.size + 1, 0, none⟩ (.int .i64 m')).setCell ⟨w.heap.size + 1, 1, none⟩ v) ∧ Box2 ((W.setCell ⟨w.heap.size + 1, 0, none⟩ (.int .i64 m')).setCell ⟨w.heap.size + 1, 1, none⟩ v) (w.heap.size + 1) 40 (.int .i64 m') v ∧ OwnF ((W.setCell ⟨w.heap.size + 1, 0, none⟩ (.int .i64 m')).setCell ⟨w.heap.size + 1, 1, none⟩ v) w.heap.size v k ys) := fun v k W ys m' base hW hbase ho =>
    put_box (HQ.out _ hW).2.2.2 (by omega) (HQ.out _ hW).2.1 (by have := HW2.out; omega) ho m'
  have HCopy : Hid (∀ (W : World), Below w2.heap.size w2 W → Calls Try.prog 56 #[.agg #[.int .i64 m, .slice a len ca]] W fun e w' => ∃ a' c', e = .returned (.agg #[.int .i64 m, .slice a' len c']) ∧ OwnF w' W.heap.size (.slice a' len c') len xs ∧ Below w2.heap.size w2 w') := by
    intro W hW
    refine (implCopy_any m a len ca xs W (HQ.out _ hW).2.2.1 (by omega)).mono ?_
    rintro e w' ⟨v, rfl, ho, hb⟩
    obtain ⟨a', c', rfl⟩ := ho.shape
    exact ⟨a', c', rfl, ho, hW.trans (hb.mono hW.size)⟩
  cases hok : okT m xs with
  | false =>
    have HAns : Hid (CutAns m n xs m xs) := .inr ⟨by rw [hok]; simp, rfl, rfl⟩
    clear hok
    go_wp2_with fail
    refine (HCopy.out w3 HB3.out).mono ?_
    rintro e w5 ⟨a5, c5, rfl, ho5, hb5⟩
    obtain ⟨g0, g1, g2, g3⟩ := (HQ.out _ hb5).2.1.cells
    have HF : Hid (Below w.heap.size w ((w5.setCell ⟨w.heap.size + 1, 0, none⟩ (.int .i64 m)).setCell ⟨w.heap.size + 1, 1, none⟩ (.slice a5 len c5)) ∧ Box2 ((w5.setCell ⟨w.heap.size + 1, 0, none⟩ (.int .i64 m)).setCell ⟨w.heap.size + 1, 1, none⟩ (.slice a5 len c5)) (w.heap.size + 1) 40 (.int .i64 m) (.slice a5 len c5) ∧ OwnF ((w5.setCell ⟨w.heap.size + 1, 0, none⟩ (.int .i64 m)).setCell ⟨w.heap.size + 1, 1, none⟩ (.slice a5 len c5)) w.heap.size (.slice a5 len c5) len xs) := HC.out _ _ _ _ m _ hb5 HB3.out.size ho5
    clear ho5 hb5 d0 d1
    go_wp2_with fail
    obtain ⟨r0, r1⟩ := ret_tab HF.out.2.1
    refine bodyPost_ret (v := .agg #[.int .i64 m, .slice a5 len c5]) (by simp [results, Try.f112, go_sem, r0, r1]) rfl ?_
    exact ⟨_, m, len, xs, rfl, HAns.out, HF.out.2.2, HF.out.1⟩
  | true =>
    obtain ⟨hfew, hz, hm0, hm1, hzm⟩ := okT_few hok
    cases hmx : okMax n with
    | false =>
      have HAns : Hid (CutAns m n xs m xs) := .inr ⟨fun h => (by have h2 : okMax n = true := decide_eq_true h.2; rw [hmx] at h2; cases h2), rfl, rfl⟩
      have HM : Hid (∀ w : World, Calls Try.prog 64 #[.int .i64 n] w fun e w' => e = .returned (.bool false) ∧ w' = w) := fun w => by have := maxOk_any n w; rwa [hmx] at this
      clear hok hmx
      go_wp2_with fail
      refine (HM.out _).mono ?_
      rintro e w4 ⟨rfl, rfl⟩
      go_wp2_with fail
      refine (HCopy.out w4 HB3.out).mono ?_
      rintro e w5 ⟨a5, c5, rfl, ho5, hb5⟩
      obtain ⟨g0, g1, g2, g3⟩ := (HQ.out _ hb5).2.1.cells
      have HF : Hid (Below w.heap.size w ((w5.setCell ⟨w.heap.size + 1, 0, none⟩ (.int .i64 m)).setCell ⟨w.heap.size + 1, 1, none⟩ (.slice a5 len c5)) ∧ Box2 ((w5.setCell ⟨w.heap.size + 1, 0, none⟩ (.int .i64 m)).setCell ⟨w.heap.size + 1, 1, none⟩ (.slice a5 len c5)) (w.heap.size + 1) 40 (.int .i64 m) (.slice a5 len c5) ∧ OwnF ((w5.setCell ⟨w.heap.size + 1, 0, none⟩ (.int .i64 m)).setCell ⟨w.heap.size + 1, 1, none⟩ (.slice a5 len c5)) w.heap.size (.slice a5 len c5) len xs) := HC.out _ _ _ _ m _ hb5 HB3.out.size ho5
      clear ho5 hb5 d0 d1
      go_wp2_with fail
      obtain ⟨r0, r1⟩ := ret_tab HF.out.2.1
      refine bodyPost_ret (v := .agg #[.int .i64 m, .slice a5 len c5]) (by simp [results, Try.f112, go_sem, r0, r1]) rfl ?_
      exact ⟨_, m, len, xs, rfl, HAns.out, HF.out.2.2, HF.out.1⟩
    | true =>
      have hn : 0 ≤ n ∧ n ≤ 4096 := of_decide_eq_true hmx
      have HM : Hid (∀ w : World, Calls Try.prog 64 #[.int .i64 n] w fun e w' => e = .returned (.bool true) ∧ w' = w) := fun w => by have := maxOk_any n w; rwa [hmx] at this
      have HOk : Hid (okT m xs = true) := hok
      clear hok hmx
      go_wp2_with fail
      refine (HM.out _).mono ?_
      rintro e w4 ⟨rfl, rfl⟩
      go_wp2_with fail
      refine (ringOf_any a len ca xs _ (HQ.out _ HB3.out).2.2.1 (by omega) (by omega)).mono ?_
      rintro e w5 ⟨b, p, rfl, hbl, hR5, hb5⟩
      have HR5 : Hid (Ring w5 b p xs) := hR5
      have HB5 : Hid (Below w2.heap.size w2 w5) := HB3.out.trans (hb5.mono HB3.out.size)
      have hbl2 : w2.heap.size ≤ b := Nat.le_trans HB3.out.size hbl
      clear hR5 hb5 d0 d1 hbl
      go_wp2_with fail
      refine (shrink_any b p xs n _ HR5.out (by omega)).mono ?_
      rintro e w6 ⟨v6, k, rfl, hL, hR6, hg6⟩
      have HR6 : Hid (Ring w6 b p (xs.take k)) := hR6
      have HB6 : Hid (Below w2.heap.size w2 w6) := HB5.out.grown hg6 HB5.out.size (fun q e => by injection e with e; omega)
      have HAns : Hid (CutAns m n xs n (xs.take k)) := .inl ⟨⟨HOk.out, hn⟩, rfl, k, hL.fit hn.1, rfl⟩
      clear hR6 hg6 hL
      go_wp2_with fail
      refine (list_any b p (xs.take k) _ HR6.out (fun f hf => HX.out.2.1 f (List.mem_of_mem_take hf))).mono ?_
      rintro e w7 ⟨v7, rfl, ho7, hb7⟩
      obtain ⟨a7, c7, rfl⟩ := ho7.shape
      generalize (xs.take k).length = k7 at ho7 ⊢
      have hb7' : Below w2.heap.size w2 w7 := HB6.out.trans (hb7.mono HB6.out.size)
      obtain ⟨g0, g1, g2, g3⟩ := (HQ.out _ hb7').2.1.cells
      have HF : Hid (Below w.heap.size w ((w7.setCell ⟨w.heap.size + 1, 0, none⟩ (.int .i64 n)).setCell ⟨w.heap.size + 1, 1, none⟩ (.slice a7 k7 c7)) ∧ Box2 ((w7.setCell ⟨w.heap.size + 1, 0, none⟩ (.int .i64 n)).setCell ⟨w.heap.size + 1, 1, none⟩ (.slice a7 k7 c7)) (w.heap.size + 1) 40 (.int .i64 n) (.slice a7 k7 c7) ∧ OwnF ((w7.setCell ⟨w.heap.size + 1, 0, none⟩ (.int .i64 n)).setCell ⟨w.heap.size + 1, 1, none⟩ (.slice a7 k7 c7)) w.heap.size (.slice a7 k7 c7) k7 (xs.take k)) := HC.out _ _ _ _ n _ hb7' HB6.out.size ho7
      clear ho7 hb7 hb7'
      go_wp2_with fail
      obtain ⟨r0, r1⟩ := ret_tab HF.out.2.1
      refine bodyPost_ret (v := .agg #[.int .i64 n, .slice a7 k7 c7]) (by simp [results, Try.f112, go_sem, r0, r1]) rfl ?_
      exact ⟨_, n, k7, xs.take k, rfl, HAns.out, HF.out.2.2, HF.out.1⟩

end Go.Proofs.Ytghakpcagacdaal
