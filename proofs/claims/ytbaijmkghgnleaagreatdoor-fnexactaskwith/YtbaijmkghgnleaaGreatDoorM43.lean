/- What the program's AskWith answers. -/
import Derived.Test.YtbaijmkghgnleaaGreatDoorM25
import Derived.Test.YtbaijmkghgnleaaGreatDoorM18
import Derived.Test.YtbaijmkghgnleaaGreatDoorM19
import Derived.Test.YtbaijmkghgnleaaGreatDoorM25
import Derived.Test.YtbaijmkghgnleaaGreatDoorM39
import Derived.Test.YtbaijmkghgnleaaGreatDoorM41
import Derived.Test.YtbaijmkghgnleaaGreatDoorM42
import Derived.Test.YtbaijmkghgnleaaGreatDoorM42
import Derived.Deep.RegionHeld3
namespace Go.Proofs.YtbaijmkghgnleaaGreatDoor
open Go.RowKit
set_option linter.unusedVariables false

set_option maxRecDepth 10000 in
set_option maxHeartbeats 1600000 in
theorem implAsk_any (m : Int) (a : Option Addr) (len ca : Nat) (xs : List Fld) (s op : Int) (x : ByteArray) (n : Int) (b o L C : Nat) (zs : List Int) (most : Int) (w : World) (hx : Flds w a len xs) (hl : len + fldBytes xs ≤ 2097152) (hs : Seg w (some ⟨b, o, none⟩) L zs) (hC : L ≤ C) (hL : L ≤ 1048576)
    (hr : ∀ W, Below w.heap.size w W → Calls Tryz.prog 29 #[.agg #[.int .i64 op, .string x, .int .i64 n]] W fun e w' => e = .returned (.bool (reqB op x.data.toList n)) ∧ Below W.heap.size W w')
    (hp : reqB op x.data.toList n = true → okT m xs = true → ∀ W, Below w.heap.size w W → Calls Tryz.prog 33 #[.agg #[.int .i64 op, .string x, .int .i64 n]] W fun e w' => ∃ A K C, e = .returned (.slice A K C) ∧ Below W.heap.size W w' ∧ ∀ W', Below w'.heap.size w' W' → Calls Tryz.prog 32 #[.agg #[.int .i64 m, .slice a len ca], .slice A K C] W' fun e w' => ∃ q aq k cq v j ys, e = .returned (.tuple #[.slice aq k cq, .agg #[.int .i64 m, v]]) ∧ PutN (fieldsR op x n) m xs (fieldsR op x n).length q ys ∧ k ≤ 1000000 ∧ Owns w' W'.heap.size aq k cq q ∧ OwnF w' W'.heap.size v j ys ∧ Below W'.heap.size W' w') :
    Calls Tryz.prog 10 #[.agg #[.int .i64 m, .slice a len ca], .int .i64 s, .agg #[.int .i64 op, .string x, .int .i64 n], .slice (some ⟨b, o, none⟩) L C, .int .i64 most] w fun e w' => AskAns m xs s op x n zs most w.heap.size e w' ∧ Below w.heap.size w w' := by
  have HX : Hid (Flds w a len xs) := hx
  have HS : Hid (Seg w (some ⟨b, o, none⟩) L zs) := hs
  have hlen := hx.1
  have HR : Hid (∀ W, Below w.heap.size w W → Calls Tryz.prog 29 #[.agg #[.int .i64 op, .string x, .int .i64 n]] W fun e w' => e = .returned (.bool (reqB op x.data.toList n)) ∧ Below W.heap.size W w') := hr
  have HP := (show Hid _ from hp)
  clear hx hs hr hp
  obtain ⟨w2, hw2⟩ : ∃ w2, ((w.alloc (.cells #[.int .i64 m, .slice a len ca] 32)).alloc (.cells #[.int .i64 op, .string x, .int .i64 n] 36)).alloc (.cells #[.int .i64 0, .slice none 0 0] 32) = w2 := ⟨_, rfl⟩
  have q1 : Box2 w2 w.heap.size 32 (.int .i64 m) (.slice a len ca) := by rw [← hw2]; exact ((Box2.new _ _ _ _).alloc _).alloc _
  have q2 : Box3 w2 (w.heap.size + 1) 36 (.int .i64 op) (.string x) (.int .i64 n) := by
    rw [← hw2]
    have := (Box3.new (w.alloc (.cells #[.int .i64 m, .slice a len ca] 32)) 36 (.int .i64 op) (.string x) (.int .i64 n)).alloc (.cells #[.int .i64 0, .slice none 0 0] 32)
    rwa [World.size_alloc] at this
  have q3 : Box2 w2 (w.heap.size + 2) 32 (.int .i64 0) (.slice none 0 0) := by
    rw [← hw2]
    have := Box2.new ((w.alloc (.cells #[.int .i64 m, .slice a len ca] 32)).alloc (.cells #[.int .i64 op, .string x, .int .i64 n] 36)) 32 (.int .i64 0) (.slice none 0 0)
    rwa [World.size_alloc, World.size_alloc] at this
  have HB2 : Hid (Below w.heap.size w w2) := by show Below _ _ _; rw [← hw2]; exact (((Below.refl _ _).alloc (Nat.le_refl _) _).alloc (by simp) _).alloc (by simp; omega) _
  have HW2 : Hid (w2.heap.size = w.heap.size + 3) := by show _ = _; rw [← hw2]; simp
  have HQ : Hid (∀ W, Below w2.heap.size w2 W → Box2 W w.heap.size 32 (.int .i64 m) (.slice a len ca) ∧ Box3 W (w.heap.size + 1) 36 (.int .i64 op) (.string x) (.int .i64 n) ∧ Box2 W (w.heap.size + 2) 32 (.int .i64 0) (.slice none 0 0) ∧ Flds W a len xs ∧ Seg W (some ⟨b, o, none⟩) L zs ∧ Below w.heap.size w W) := fun W h =>
    have hb := HB2.out.trans (h.mono HB2.out.size)
    ⟨q1.stays h, q2.stays h, q3.stays h, HX.out.below hb, HS.out.below hb, hb⟩
  obtain ⟨c0, c1, _, _⟩ := q1.cells
  clear q1 q2 q3
  go_enter Tryz.func10, Tryz.ntmps10
  go_wp2_with fail
  refine (implOk_any m a len ca xs _ (HQ.out _ (Below.refl _ _)).2.2.2.1 hl).mono ?_
  rintro e w3 ⟨rfl, hb3⟩
  have HB3 : Hid (Below w2.heap.size w2 w3) := hb3
  obtain ⟨d0, d1, _, _⟩ := (HQ.out _ hb3).1.cells
  obtain ⟨e0, e1, e2⟩ := (HQ.out _ hb3).2.1.cells
  clear hb3 c0 c1 hw2
  cases hok : okT m xs with
  | false =>
    have hno : ¬ (okT m xs = true ∧ reqB op x.data.toList n = true ∧ 1 ≤ s ∧ s ≤ 2147483647) := by rw [hok]; simp
    clear hok
    have HNo : Hid (¬ (okT m xs = true ∧ reqB op x.data.toList n = true ∧ 1 ≤ s ∧ s ≤ 2147483647)) := hno
    clear hno
    have hbz : Below w2.heap.size w2 (w3.alloc (.cells #[] 5)) := HB3.out.alloc HB3.out.size _
    obtain ⟨f0, f1, _, _⟩ := (HQ.out _ hbz).1.cells
    have HCp : Hid (Calls Tryz.prog 31 #[.agg #[.int .i64 m, .slice a len ca]] (w3.alloc (.cells #[] 5)) fun e w' => ∃ a' c', e = .returned (.agg #[.int .i64 m, .slice a' len c']) ∧ OwnF w' (w3.alloc (.cells #[] 5)).heap.size (.slice a' len c') len xs ∧ Below w2.heap.size w2 w' ∧ Below (w3.alloc (.cells #[] 5)).heap.size (w3.alloc (.cells #[] 5)) w') := by
      refine (implCopy_any m a len ca xs _ (HQ.out _ hbz).2.2.2.1 (by omega)).mono ?_
      rintro e w' ⟨v, rfl, ho, hb⟩
      obtain ⟨a', c', rfl⟩ := ho.shape
      exact ⟨a', c', rfl, ho, hbz.trans (hb.mono hbz.size), hb⟩
    clear hbz
    go_wp2_with fail
    refine HCp.out.mono ?_
    rintro e w5 ⟨a5, c5, rfl, ho5, hb5, hb5'⟩
    have HO5 : Hid (OwnF w5 (w3.alloc (.cells #[] 5)).heap.size (.slice a5 len c5) len xs) := ho5
    have HB5 : Hid (Below w2.heap.size w2 w5) := hb5
    obtain ⟨g0, g1, g2, g3⟩ := (HQ.out _ hb5).2.2.1.cells
    have hsz : (w3.alloc (.cells #[] 5)).heap.size = w3.heap.size + 1 := World.size_alloc _ _
    have hw3 : w.heap.size + 3 ≤ w3.heap.size := by have := HB3.out.size; have := HW2.out; omega
    have HF : Hid (_ ∧ _ ∧ _) := put_box (HQ.out _ hb5).2.2.2.2.2 (by omega) (HQ.out _ hb5).2.2.1 (by omega) ho5 m
    have HOwn : Hid (Owns ((w5.setCell ⟨w.heap.size + 2, 0, none⟩ (.int .i64 m)).setCell ⟨w.heap.size + 2, 1, none⟩ (.slice a5 len c5)) w.heap.size (some ⟨w3.heap.size, 0, none⟩) 0 0 []) := by
      have h0 : Owns (w3.alloc (.cells #[] 5)) w3.heap.size (some ⟨w3.heap.size, 0, none⟩) 0 0 [] := ⟨World.ownsRow_lit w3 #[] 0 (Nat.le_refl _) (Nat.zero_le _) rfl, by simp⟩
      have h1 := h0.below hb5'
      exact ⟨own_down (ownsRow_setCell_below (ownsRow_setCell_below h1.1 (a := ⟨w.heap.size + 2, 0, none⟩) (by show w.heap.size + 2 < w3.heap.size; omega) _) (a := ⟨w.heap.size + 2, 1, none⟩) (by show w.heap.size + 2 < w3.heap.size; omega) _) (by omega), h1.2⟩
    clear ho5 hb5 hb5' f0 f1 HCp
    go_wp2_with fail
    obtain ⟨r0, r1, _, _⟩ := HF.out.2.1.cells
    refine bodyPost_ret (v := .tuple #[.slice (some ⟨w3.heap.size, 0, none⟩) 0 0, .agg #[.int .i64 m, .slice a5 len c5]]) (by simp [results, Tryz.f10, go_sem, r0, r1]) rfl ?_
    exact ⟨⟨[], xs, _, _, _, _, _, rfl, .inr ⟨HNo.out, rfl, rfl⟩, HOwn.out, HF.out.2.2⟩, HF.out.1⟩
  | true =>
    have HOk : Hid (okT m xs = true) := hok
    clear hok
    go_wp2_with fail
    refine (HR.out _ (HQ.out _ HB3.out).2.2.2.2.2).mono ?_
    rintro e w4 ⟨rfl, hb4⟩
    have HB4 : Hid (Below w2.heap.size w2 w4) := HB3.out.trans (hb4.mono HB3.out.size)
    clear hb4 d0 d1 e0 e1 e2
    obtain ⟨d0, d1, _, _⟩ := (HQ.out _ HB4.out).1.cells
    obtain ⟨e0, e1, e2⟩ := (HQ.out _ HB4.out).2.1.cells
    cases hrq : reqB op x.data.toList n with
    | false =>
      have hno : ¬ (okT m xs = true ∧ reqB op x.data.toList n = true ∧ 1 ≤ s ∧ s ≤ 2147483647) := by rw [hrq]; simp
      clear hrq
      have HNo : Hid (¬ (okT m xs = true ∧ reqB op x.data.toList n = true ∧ 1 ≤ s ∧ s ≤ 2147483647)) := hno
      clear hno
      have hbz : Below w2.heap.size w2 (w4.alloc (.cells #[] 5)) := HB4.out.alloc HB4.out.size _
      obtain ⟨f0, f1, _, _⟩ := (HQ.out _ hbz).1.cells
      have HCp : Hid (Calls Tryz.prog 31 #[.agg #[.int .i64 m, .slice a len ca]] (w4.alloc (.cells #[] 5)) fun e w' => ∃ a' c', e = .returned (.agg #[.int .i64 m, .slice a' len c']) ∧ OwnF w' (w4.alloc (.cells #[] 5)).heap.size (.slice a' len c') len xs ∧ Below w2.heap.size w2 w' ∧ Below (w4.alloc (.cells #[] 5)).heap.size (w4.alloc (.cells #[] 5)) w') := by
        refine (implCopy_any m a len ca xs _ (HQ.out _ hbz).2.2.2.1 (by omega)).mono ?_
        rintro e w' ⟨v, rfl, ho, hb⟩
        obtain ⟨a', c', rfl⟩ := ho.shape
        exact ⟨a', c', rfl, ho, hbz.trans (hb.mono hbz.size), hb⟩
      clear hbz
      go_wp2_with fail
      refine HCp.out.mono ?_
      rintro e w5 ⟨a5, c5, rfl, ho5, hb5, hb5'⟩
      have HO5 : Hid (OwnF w5 (w4.alloc (.cells #[] 5)).heap.size (.slice a5 len c5) len xs) := ho5
      have HB5 : Hid (Below w2.heap.size w2 w5) := hb5
      obtain ⟨g0, g1, g2, g3⟩ := (HQ.out _ hb5).2.2.1.cells
      have hsz : (w4.alloc (.cells #[] 5)).heap.size = w4.heap.size + 1 := World.size_alloc _ _
      have hw4 : w.heap.size + 3 ≤ w4.heap.size := by have := HB4.out.size; have := HW2.out; omega
      have HF : Hid (_ ∧ _ ∧ _) := put_box (HQ.out _ hb5).2.2.2.2.2 (by omega) (HQ.out _ hb5).2.2.1 (by omega) ho5 m
      have HOwn : Hid (Owns ((w5.setCell ⟨w.heap.size + 2, 0, none⟩ (.int .i64 m)).setCell ⟨w.heap.size + 2, 1, none⟩ (.slice a5 len c5)) w.heap.size (some ⟨w4.heap.size, 0, none⟩) 0 0 []) := by
        have h0 : Owns (w4.alloc (.cells #[] 5)) w4.heap.size (some ⟨w4.heap.size, 0, none⟩) 0 0 [] := ⟨World.ownsRow_lit w4 #[] 0 (Nat.le_refl _) (Nat.zero_le _) rfl, by simp⟩
        have h1 := h0.below hb5'
        exact ⟨own_down (ownsRow_setCell_below (ownsRow_setCell_below h1.1 (a := ⟨w.heap.size + 2, 0, none⟩) (by show w.heap.size + 2 < w4.heap.size; omega) _) (a := ⟨w.heap.size + 2, 1, none⟩) (by show w.heap.size + 2 < w4.heap.size; omega) _) (by omega), h1.2⟩
      clear ho5 hb5 hb5' f0 f1 HCp
      go_wp2_with fail
      obtain ⟨r0, r1, _, _⟩ := HF.out.2.1.cells
      refine bodyPost_ret (v := .tuple #[.slice (some ⟨w4.heap.size, 0, none⟩) 0 0, .agg #[.int .i64 m, .slice a5 len c5]]) (by simp [results, Tryz.f10, go_sem, r0, r1]) rfl ?_
      exact ⟨⟨[], xs, _, _, _, _, _, rfl, .inr ⟨HNo.out, rfl, rfl⟩, HOwn.out, HF.out.2.2⟩, HF.out.1⟩
    | true =>
      have HRq : Hid (reqB op x.data.toList n = true) := hrq
      clear hrq
      by_cases hs : 1 ≤ s ∧ s ≤ 2147483647
      case neg =>
        have hno : ¬ (okT m xs = true ∧ reqB op x.data.toList n = true ∧ 1 ≤ s ∧ s ≤ 2147483647) := fun h => hs h.2.2
        have HBk : Hid (∀ w : World, Calls Tryz.prog 30 #[.int .i64 s] w fun e w' => e = .returned (.bool false) ∧ w' = w) := fun w => blockOk_no s w hs
        clear hs
        go_wp2_with fail
        refine (HBk.out _).mono ?_
        rintro e w5 ⟨rfl, rfl⟩
        have HNo : Hid (¬ (okT m xs = true ∧ reqB op x.data.toList n = true ∧ 1 ≤ s ∧ s ≤ 2147483647)) := hno
        clear hno
        have hbz : Below w2.heap.size w2 (w5.alloc (.cells #[] 5)) := HB4.out.alloc HB4.out.size _
        obtain ⟨f0, f1, _, _⟩ := (HQ.out _ hbz).1.cells
        have HCp : Hid (Calls Tryz.prog 31 #[.agg #[.int .i64 m, .slice a len ca]] (w5.alloc (.cells #[] 5)) fun e w' => ∃ a' c', e = .returned (.agg #[.int .i64 m, .slice a' len c']) ∧ OwnF w' (w5.alloc (.cells #[] 5)).heap.size (.slice a' len c') len xs ∧ Below w2.heap.size w2 w' ∧ Below (w5.alloc (.cells #[] 5)).heap.size (w5.alloc (.cells #[] 5)) w') := by
          refine (implCopy_any m a len ca xs _ (HQ.out _ hbz).2.2.2.1 (by omega)).mono ?_
          rintro e w' ⟨v, rfl, ho, hb⟩
          obtain ⟨a', c', rfl⟩ := ho.shape
          exact ⟨a', c', rfl, ho, hbz.trans (hb.mono hbz.size), hb⟩
        clear hbz
        go_wp2_with fail
        refine HCp.out.mono ?_
        rintro e w6 ⟨a5, c5, rfl, ho5, hb5, hb5'⟩
        have HO5 : Hid (OwnF w6 (w5.alloc (.cells #[] 5)).heap.size (.slice a5 len c5) len xs) := ho5
        have HB5 : Hid (Below w2.heap.size w2 w6) := hb5
        obtain ⟨g0, g1, g2, g3⟩ := (HQ.out _ hb5).2.2.1.cells
        have hsz : (w5.alloc (.cells #[] 5)).heap.size = w5.heap.size + 1 := World.size_alloc _ _
        have hw5 : w.heap.size + 3 ≤ w5.heap.size := by have := HB4.out.size; have := HW2.out; omega
        have HF : Hid (_ ∧ _ ∧ _) := put_box (HQ.out _ hb5).2.2.2.2.2 (by omega) (HQ.out _ hb5).2.2.1 (by omega) ho5 m
        have HOwn : Hid (Owns ((w6.setCell ⟨w.heap.size + 2, 0, none⟩ (.int .i64 m)).setCell ⟨w.heap.size + 2, 1, none⟩ (.slice a5 len c5)) w.heap.size (some ⟨w5.heap.size, 0, none⟩) 0 0 []) := by
          have h0 : Owns (w5.alloc (.cells #[] 5)) w5.heap.size (some ⟨w5.heap.size, 0, none⟩) 0 0 [] := ⟨World.ownsRow_lit w5 #[] 0 (Nat.le_refl _) (Nat.zero_le _) rfl, by simp⟩
          have h1 := h0.below hb5'
          exact ⟨own_down (ownsRow_setCell_below (ownsRow_setCell_below h1.1 (a := ⟨w.heap.size + 2, 0, none⟩) (by show w.heap.size + 2 < w5.heap.size; omega) _) (a := ⟨w.heap.size + 2, 1, none⟩) (by show w.heap.size + 2 < w5.heap.size; omega) _) (by omega), h1.2⟩
        clear ho5 hb5 hb5' f0 f1 HCp
        go_wp2_with fail
        obtain ⟨r0, r1, _, _⟩ := HF.out.2.1.cells
        refine bodyPost_ret (v := .tuple #[.slice (some ⟨w5.heap.size, 0, none⟩) 0 0, .agg #[.int .i64 m, .slice a5 len c5]]) (by simp [results, Tryz.f10, go_sem, r0, r1]) rfl ?_
        exact ⟨⟨[], xs, _, _, _, _, _, rfl, .inr ⟨HNo.out, rfl, rfl⟩, HOwn.out, HF.out.2.2⟩, HF.out.1⟩
      have HSt : Hid (1 ≤ s ∧ s ≤ 2147483647) := hs
      have HBk : Hid (∀ w : World, Calls Tryz.prog 30 #[.int .i64 s] w fun e w' => e = .returned (.bool true) ∧ w' = w) := fun w => blockOk_yes s w hs.1 hs.2
      clear hs
      go_wp2_with fail
      refine (HBk.out _).mono ?_
      rintro e w5 ⟨rfl, rfl⟩
      have HFl : Hid (∀ W, Below w2.heap.size w2 W → Calls Tryz.prog 33 #[.agg #[.int .i64 op, .string x, .int .i64 n]] W fun e w' => ∃ A K C, e = .returned (.slice A K C) ∧ Below w2.heap.size w2 w' ∧ Below W.heap.size W w' ∧ ∀ W', Below w'.heap.size w' W' → Calls Tryz.prog 32 #[.agg #[.int .i64 m, .slice a len ca], .slice A K C] W' fun e w' => ∃ q aq k cq av j cv ys, e = .returned (.tuple #[.slice aq k cq, .agg #[.int .i64 m, .slice av j cv]]) ∧ PutN (fieldsR op x n) m xs (fieldsR op x n).length q ys ∧ k ≤ 1000000 ∧ Owns w' W'.heap.size aq k cq q ∧ OwnF w' W'.heap.size (.slice av j cv) j ys ∧ Below W'.heap.size W' w' ∧ Below w2.heap.size w2 w') := fun W hW => by
        refine (HP.out HRq.out HOk.out W (HQ.out _ hW).2.2.2.2.2).mono ?_
        rintro e w' ⟨A, K, C, rfl, hb, h⟩
        have hb' := hW.trans (hb.mono hW.size)
        refine ⟨A, K, C, rfl, hb', hb, fun W' hW' => (h W' hW').mono ?_⟩
        rintro e w'' ⟨q, aq, k, cq, v, j, ys, rfl, h1, h2, h3, h4, h5⟩
        obtain ⟨av, cv, rfl⟩ := h4.shape
        have hb2 := hb'.trans (hW'.mono hb'.size)
        exact ⟨q, aq, k, cq, av, j, cv, ys, rfl, h1, h2, h3, h4, h5, hb2.trans (h5.mono hb2.size)⟩
      clear HP HR HBk
      have hbA : Below w2.heap.size w2 w5.drew := HB4.out.drew
      have hbB : Below w2.heap.size w2 (w5.alloc (.cells #[.int .i64 0, .slice none 0 0] 32)).drew := (HB4.out.alloc HB4.out.size _).drew
      have HZ : Hid (Box2 (w5.alloc (.cells #[.int .i64 0, .slice none 0 0] 32)).drew w5.heap.size 32 (.int .i64 0) (.slice none 0 0)) := (Box2.new _ _ _ _).stays (Below.refl _ _).drew
      go_upto_region 3 with fail
      go_region_held3 (fun W => W.cell? ⟨w.heap.size, 0, none⟩ = some (.int .i64 m) ∧ W.cell? ⟨w.heap.size, 1, none⟩ = some (.slice a len ca) ∧ W.cell? ⟨w.heap.size + 1, 0, none⟩ = some (.int .i64 op) ∧ W.cell? ⟨w.heap.size + 1, 1, none⟩ = some (.string x) ∧ W.cell? ⟨w.heap.size + 1, 2, none⟩ = some (.int .i64 n)) (first | (refine ⟨?_, ?_, ?_, ?_, ?_⟩ <;> assumption) | go_keep) (first
        | (go_at_call 33; first
            | (refine (HFl.out w5.drew hbA).mono ?_; rintro e y1 ⟨A1, K1, C1, rfl, hB1, hb1, hP1⟩; obtain ⟨s0, s1, _, _⟩ := (HQ.out _ hB1).1.cells; obtain ⟨s2, s3, s4⟩ := (HQ.out _ hB1).2.1.cells; have hp0 := Below.refl y1.heap.size y1; have hp1 := hp0.alloc (Nat.le_refl _) (.cells #[.int .i64 0, .slice none 0 0] 32); have HN1 : Hid (Box2 (y1.alloc (.cells #[.int .i64 0, .slice none 0 0] 32)) y1.heap.size 32 (.int .i64 0) (.slice none 0 0)) := Box2.new _ _ _ _; obtain ⟨u0, u1, _, _⟩ := (HQ.out _ (hB1.alloc hB1.size (.cells #[.int .i64 0, .slice none 0 0] 32))).1.cells; obtain ⟨u2, u3, u4⟩ := (HQ.out _ (hB1.alloc hB1.size (.cells #[.int .i64 0, .slice none 0 0] 32))).2.1.cells)
            | (refine (HFl.out (w5.alloc (.cells #[.int .i64 0, .slice none 0 0] 32)).drew hbB).mono ?_; rintro e y1 ⟨A1, K1, C1, rfl, hB1, hb1, hP1⟩; obtain ⟨s0, s1, _, _⟩ := (HQ.out _ hB1).1.cells; obtain ⟨s2, s3, s4⟩ := (HQ.out _ hB1).2.1.cells; have hp0 := Below.refl y1.heap.size y1; have HZ1 := HZ.out.stays hb1))
        | (go_at_call 32; first
            | (refine (hP1 y1 hp0).mono ?_; rintro e y2 ⟨q, aq, k, cq, av, j, cv, ys, rfl, hput, hk, hoq, hoy, hb2, hB2⟩; obtain ⟨t0, t1, _, _⟩ := (HQ.out _ hB2).1.cells; obtain ⟨t2, t3, t4⟩ := (HQ.out _ hB2).2.1.cells; have HZ2 := Box2.stays HZ1 hb2; obtain ⟨z0, z1, z2, z3⟩ := HZ2.cells; have hBs := (hB2.setCell (p := ⟨w5.heap.size, 0, none⟩) HB4.out.size (.int .i64 m)).setCell (p := ⟨w5.heap.size, 1, none⟩) HB4.out.size (.slice av j cv); obtain ⟨r0, r1, _, _⟩ := (HQ.out _ hBs).1.cells; obtain ⟨r2, r3, r4⟩ := (HQ.out _ hBs).2.1.cells; have HBx : Hid (Box2 ((y2.setCell ⟨w5.heap.size, 0, none⟩ (.int .i64 m)).setCell ⟨w5.heap.size, 1, none⟩ (.slice av j cv)) w5.heap.size 32 (.int .i64 m) (.slice av j cv)) := two_set1 (two_set0 HZ2 _) _; have hlt : w5.heap.size < y1.heap.size := (by first | exact Nat.lt_of_lt_of_le (by simp) hb1.size | simp); have HOy : Hid (OwnF ((y2.setCell ⟨w5.heap.size, 0, none⟩ (.int .i64 m)).setCell ⟨w5.heap.size, 1, none⟩ (.slice av j cv)) w2.heap.size (.slice av j cv) j ys) := ⟨own_down (ownsRow_setCell_below (ownsRow_setCell_below hoy.1 (a := ⟨w5.heap.size, 0, none⟩) hlt _) (a := ⟨w5.heap.size, 1, none⟩) hlt _) (Nat.le_trans hB1.size (by first | exact Nat.le_refl _ | simp)), hoy.2⟩; have HOq : Hid (Owns ((y2.setCell ⟨w5.heap.size, 0, none⟩ (.int .i64 m)).setCell ⟨w5.heap.size, 1, none⟩ (.slice av j cv)) w2.heap.size aq k cq q) := ⟨own_down (ownsRow_setCell_below (ownsRow_setCell_below hoq.1 (a := ⟨w5.heap.size, 0, none⟩) hlt _) (a := ⟨w5.heap.size, 1, none⟩) hlt _) (Nat.le_trans hB1.size (by first | exact Nat.le_refl _ | simp)), hoq.2⟩)
            | (refine (hP1 y1 hp0).mono ?_; rintro e y2 ⟨q, aq, k, cq, av, j, cv, ys, rfl, hput, hk, hoq, hoy, hb2, hB2⟩; obtain ⟨t0, t1, _, _⟩ := (HQ.out _ hB2).1.cells; obtain ⟨t2, t3, t4⟩ := (HQ.out _ hB2).2.1.cells; have HBx : Hid (Box2 (y2.alloc (.cells #[.int .i64 m, .slice av j cv] 32)) y2.heap.size 32 (.int .i64 m) (.slice av j cv)) := Box2.new _ _ _ _; have HN2 := Box2.new y2 32 (.int .i64 0) (.slice none 0 0); obtain ⟨z0, z1, z2, z3⟩ := HN2.cells; have hBs := hB2.alloc hB2.size (.cells #[.int .i64 m, .slice av j cv] 32); obtain ⟨r0, r1, _, _⟩ := (HQ.out _ hBs).1.cells; obtain ⟨r2, r3, r4⟩ := (HQ.out _ hBs).2.1.cells; have hb22 : Below y2.heap.size y2 (y2.alloc (.cells #[.int .i64 m, .slice av j cv] 32)) := (Below.refl _ _).alloc (Nat.le_refl _) _; have HOy : Hid (OwnF (y2.alloc (.cells #[.int .i64 m, .slice av j cv] 32)) w2.heap.size (.slice av j cv) j ys) := ⟨own_down (hoy.stays hb22).1 hB1.size, hoy.2⟩; have HOq : Hid (Owns (y2.alloc (.cells #[.int .i64 m, .slice av j cv] 32)) w2.heap.size aq k cq q) := (hoq.below hb22).low hB1.size)
            | (refine (hP1 (y1.alloc (.cells #[.int .i64 0, .slice none 0 0] 32)) hp1).mono ?_; rintro e y2 ⟨q, aq, k, cq, av, j, cv, ys, rfl, hput, hk, hoq, hoy, hb2, hB2⟩; obtain ⟨t0, t1, _, _⟩ := (HQ.out _ hB2).1.cells; obtain ⟨t2, t3, t4⟩ := (HQ.out _ hB2).2.1.cells; have HM2 := Box2.stays HN1.out hb2; obtain ⟨z0, z1, z2, z3⟩ := HM2.cells; have hBs := (hB2.setCell (p := ⟨y1.heap.size, 0, none⟩) hB1.size (.int .i64 m)).setCell (p := ⟨y1.heap.size, 1, none⟩) hB1.size (.slice av j cv); obtain ⟨r0, r1, _, _⟩ := (HQ.out _ hBs).1.cells; obtain ⟨r2, r3, r4⟩ := (HQ.out _ hBs).2.1.cells; have HBx : Hid (Box2 ((y2.setCell ⟨y1.heap.size, 0, none⟩ (.int .i64 m)).setCell ⟨y1.heap.size, 1, none⟩ (.slice av j cv)) y1.heap.size 32 (.int .i64 m) (.slice av j cv)) := two_set1 (two_set0 HM2 _) _; have hlt : y1.heap.size < (y1.alloc (.cells #[.int .i64 0, .slice none 0 0] 32)).heap.size := (by first | exact Nat.lt_of_lt_of_le (by simp) hb1.size | simp); have HOy : Hid (OwnF ((y2.setCell ⟨y1.heap.size, 0, none⟩ (.int .i64 m)).setCell ⟨y1.heap.size, 1, none⟩ (.slice av j cv)) w2.heap.size (.slice av j cv) j ys) := ⟨own_down (ownsRow_setCell_below (ownsRow_setCell_below hoy.1 (a := ⟨y1.heap.size, 0, none⟩) hlt _) (a := ⟨y1.heap.size, 1, none⟩) hlt _) (Nat.le_trans hB1.size (by first | exact Nat.le_refl _ | simp)), hoy.2⟩; have HOq : Hid (Owns ((y2.setCell ⟨y1.heap.size, 0, none⟩ (.int .i64 m)).setCell ⟨y1.heap.size, 1, none⟩ (.slice av j cv)) w2.heap.size aq k cq q) := ⟨own_down (ownsRow_setCell_below (ownsRow_setCell_below hoq.1 (a := ⟨y1.heap.size, 0, none⟩) hlt _) (a := ⟨y1.heap.size, 1, none⟩) hlt _) (Nat.le_trans hB1.size (by first | exact Nat.le_refl _ | simp)), hoq.2⟩))
        | fail)
      all_goals
        have HPut : Hid (PutN (fieldsR op x n) m xs (fieldsR op x n).length q ys) := hput
        have hqk : q.length = k := hoq.seg.1
        have hk0 : 0 < k := by rw [← hqk]; exact PutN.pos HOk.out (fieldsR_pos HRq.out) hput
        have HBs : Hid _ := hBs
        obtain ⟨gq, rfl, -⟩ := hoq.some hk0
        clear hput hoq hoy hBs
        have hcap : k ≤ cq := by
          rcases HOq.out.1.2 with ⟨e, h0⟩ | ⟨g', c', cur, he, hgb, hg, hn, hm, hc, ht⟩
          · omega
          · injection he with e1 e2 e3
            omega
        go_wp2_with fail
        refine (implPart_any s _ gq 0 k cq q most _ HOq.out.seg hcap (by omega)).mono ?_
        rintro e y3 ⟨v3, l3, rfl, hr3, hd3, hb3⟩
        obtain ⟨a3, c3, rfl⟩ := hr3.shape
        have HD3 : Hid (l3.map FE.data = _) := hd3
        have HF3 : Hid (FrIn y3 a3 l3.length l3) := hr3.frIn rfl
        have HC3 : Hid (Below w2.heap.size w2 y3) := HBs.out.trans (hb3.mono HBs.out.size)
        have HY3 : Hid (OwnF y3 w2.heap.size (.slice av j cv) j ys) := HOy.out.stays hb3
        have HX3 := (show Hid _ from Box2.stays HBx.out hb3)
        obtain ⟨n3, hn3⟩ : ∃ n3, l3.length = n3 := ⟨_, rfl⟩
        rw [hn3] at HF3 ⊢
        have h3a : n3 ≤ k + 1 := by rw [← hn3, ← hqk, ← List.length_map (f := FE.data), HD3.out]; exact partL_len _ _ _ _
        have h3b : 0 < n3 := by rw [← hn3, ← List.length_map (f := FE.data), HD3.out]; exact partL_pos HSt.out _ _ _
        clear hr3 hd3 hb3
        go_wp2_with fail
        refine (implDatFrs_any s b o L C zs most (clampM most) _ (HQ.out _ HC3.out).2.2.2.2.1 hC hL rfl).mono ?_
        rintro e y4 ⟨⟨a4, c4, l4, rfl, hf4, hd4⟩, hb4⟩
        obtain ⟨n4, hn4⟩ : ∃ n4, pd (clampM most) L = n4 := ⟨_, rfl⟩
        have h4a : n4 ≤ L := by rw [← hn4]; exact pd_le _ _ (clampM_range most).1
        rw [hn4] at hf4 ⊢
        have HC4 : Hid (Below w2.heap.size w2 y4) := HC3.out.trans (hb4.mono HC3.out.size)
        have HF4 : Hid (FrIn y4 a4 n4 l4) := hf4
        have HD4 : Hid (l4.map FE.data = dataL s zs (clampM most)) := hd4
        have HE4 : Hid (FrIn y4 a3 n3 l3) := HF3.out.below hb4
        have HY4 : Hid (OwnF y4 w2.heap.size (.slice av j cv) j ys) := HY3.out.stays hb4
        have HX4 := (show Hid _ from Box2.stays HX3.out hb4)
        clear hf4 hd4 hb4
        go_wp2_with fail
        have hb45 : ∀ o, Below y4.heap.size y4 (y4.alloc o) := fun o => (Below.refl _ _).alloc (Nat.le_refl _) o
        refine (concatFr_any y4.heap.size 2 a3 a4 n3 n4 c3 c4 l3 l4 _ (heap_alloc_new _ _) (HE4.out.below (hb45 _)) (HF4.out.below (hb45 _)) h3b (by omega) (by omega)).mono ?_
        rintro e y5 ⟨g5, c5, rfl, hf5, hb5⟩
        have hbc : Below y4.heap.size y4 y5 := (hb45 _).trans (hb5.mono (hb45 _).size)
        have HC5 : Hid (Below w2.heap.size w2 y5) := HC4.out.trans (hbc.mono HC4.out.size)
        have HY5 : Hid (OwnF y5 w2.heap.size (.slice av j cv) j ys) := HY4.out.stays hbc
        have HX5 := Box2.stays HX4.out hbc
        have HF5 : Hid (FrIn y5 (some ⟨g5, 0, none⟩) (n3 + n4) (l3 ++ l4)) := hf5
        have hzl : zs.length = L := HS.out.1
        have hdl : (l3 ++ l4).map FE.data = askF s zs q most := by
          rw [List.map_append, HD3.out, HD4.out, askF, hzl]
          rw [show ((L : Int) == 0) = decide (L = 0) from by by_cases h : L = 0 <;> simp [h]]
        have hbl : (bytesF ((l3 ++ l4).map FE.data)).length ≤ 1099511627776 := by rw [hdl]; exact askF_bytes s zs q most (by omega) (by omega)
        have HA : Hid (AskN m xs s op x n zs most (bytesF ((l3 ++ l4).map FE.data)) ys) := .inl ⟨⟨HOk.out, HRq.out, HSt.out⟩, q, HPut.out, by rw [hdl]⟩
        obtain ⟨bs, hbs⟩ : ∃ bs, bytesF ((l3 ++ l4).map FE.data) = bs := ⟨_, rfl⟩
        obtain ⟨k6, hk6⟩ : ∃ k6, bs.length = k6 := ⟨_, rfl⟩
        rw [hbs] at HA hbl
        have HPF : Hid (∀ W, Below y5.heap.size y5 W → Calls Tryz.prog 37 #[.slice (some ⟨g5, 0, none⟩) (n3 + n4 : Nat) c5] W fun e w' => ∃ a' c', e = .returned (.slice a' k6 c') ∧ Owns w' W.heap.size a' k6 c' bs ∧ Below W.heap.size W w' ∧ Below y5.heap.size y5 w') := fun W hW => by
          refine (implPutFrs_any _ _ c5 _ W (HF5.out.below hW) (by omega) (by rw [hbs]; exact hbl)).mono ?_
          rintro e w' ⟨⟨a', c', rfl, ho⟩, hb⟩
          rw [hbs, hk6] at ho ⊢
          exact ⟨a', c', rfl, ho, hb, hW.trans (hb.mono hW.size)⟩
        clear hf5 hb5 hbc hb45 hdl hbs hzl HF5 HD3 HD4
        obtain ⟨v0, v1, _, _⟩ := HX5.cells
        have hbd := (Below.refl y5.heap.size y5).drew
        obtain ⟨x0, x1, _, _⟩ := (Box2.stays HX5 hbd).cells
        go_upto_region 5 with fail
        go_region_with (first
          | (go_at_call 37; refine (HPF.out y5.drew hbd).mono ?_; rintro e y6 ⟨a6, c6, rfl, ho6, hb6, hbb6⟩; obtain ⟨p0, p1, _, _⟩ := (Box2.stays HX5 hbb6).cells; have HC6 : Hid (Below w2.heap.size w2 y6) := HC5.out.trans (hbb6.mono HC5.out.size); obtain ⟨o0, o1, o2, o3⟩ := (HQ.out _ HC6.out).2.2.1.cells)
          | fail)
        all_goals
          have hw6 : w.heap.size + 3 ≤ y5.drew.heap.size := by have := HC5.out.size; have := HW2.out; have := hbd.size; omega
          have HF : Hid (_ ∧ _ ∧ _) := put_box (HQ.out _ HC6.out).2.2.2.2.2 (by omega) (HQ.out _ HC6.out).2.2.1 (by have := HW2.out; omega) (HY5.out.stays hbb6) m
          have HO6 : Hid (Owns ((y6.setCell ⟨w.heap.size + 2, 0, none⟩ (.int .i64 m)).setCell ⟨w.heap.size + 2, 1, none⟩ (.slice av j cv)) w.heap.size a6 k6 c6 bs) := ⟨own_down (ownsRow_setCell_below (ownsRow_setCell_below ho6.1 (a := ⟨w.heap.size + 2, 0, none⟩) (by show w.heap.size + 2 < _; omega) _) (a := ⟨w.heap.size + 2, 1, none⟩) (by show w.heap.size + 2 < _; omega) _) (by omega), ho6.2⟩
          have HK6 : Hid (bs.length = k6) := hk6
          clear ho6 hb6 hbb6 o0 o1 o2 o3 p0 p1 v0 v1 x0 x1 hk6
          go_wp2_with fail
          obtain ⟨b0, b1, _, _⟩ := HF.out.2.1.cells
          refine bodyPost_ret (v := .tuple #[.slice a6 k6 c6, .agg #[.int .i64 m, .slice av j cv]]) (by simp [results, Tryz.f10, go_sem, b0, b1]) rfl ?_
          exact ⟨⟨bs, ys, _, _, _, _, _, rfl, HA.out, HO6.out, HF.out.2.2⟩, HF.out.1⟩

end Go.Proofs.YtbaijmkghgnleaaGreatDoor
