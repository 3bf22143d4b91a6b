/- What the specification's PutField answers. -/
import Derived.Test.YtbaijmkghgnleaaGreatDoorM22
import Derived.Test.YtbaijmkghgnleaaGreatDoorM29
import Derived.Test.YtbaijmkghgnleaaGreatDoorM31
import Derived.Test.YtbaijmkghgnleaaGreatDoorM28
import Derived.Test.YtbaijmkghgnleaaGreatDoorM32
import Derived.Test.YtbaijmkghgnleaaGreatDoorM34
namespace Go.Proofs.YtbaijmkghgnleaaGreatDoor
open Go.RowKit
set_option linter.unusedVariables false

theorem ret_pair {a b c d : Int} (h : a = b) (k : c = d) : Ending.returned (.tuple #[.int .i64 a, .int .i64 c]) = .returned (.tuple #[.int .i64 b, .int .i64 d]) := by rw [h, k]

theorem drew_all {V w : World} {bx n : Nat} {t : TypeId} {x y v : Value} {ys : List Fld} (h1 : Below w.heap.size w V) (h2 : Box2 V bx t x y) (h3 : OwnF V w.heap.size v n ys) :
    Below w.heap.size w V.drew ∧ Box2 V.drew bx t x y ∧ OwnF V.drew w.heap.size v n ys := ⟨h1.drew, h2, h3⟩

theorem drew_own {V : World} {base n c : Nat} {a : Option Addr} {zs : List Int} (h : Owns V base a n c zs) : Owns V.drew base a n c zs := h

/-- A list that is made behind all. -/
theorem late_new {V w : World} {bx n : Nat} {t : TypeId} {x y v : Value} {ys : List Fld} (h1 : Below w.heap.size w V) (h2 : Box2 V bx t x y) (h3 : OwnF V w.heap.size v n ys) :
    Below w.heap.size w (V.alloc (.cells #[] 5)).drew ∧ Box2 (V.alloc (.cells #[] 5)).drew bx t x y ∧ OwnF (V.alloc (.cells #[] 5)).drew w.heap.size v n ys ∧ ∀ k, V.heap.size = k → w.heap.size ≤ k → Owns (V.alloc (.cells #[] 5)).drew w.heap.size (some ⟨k, 0, none⟩) 0 0 [] := by
  have hb : Below V.heap.size V (V.alloc (.cells #[] 5)).drew := ((Below.refl _ _).alloc (Nat.le_refl _) _).drew
  refine ⟨h1.trans (hb.mono h1.size), h2.stays hb, h3.stays hb, ?_⟩
  rintro k rfl hk
  exact ⟨⟨rfl, .inr ⟨V.heap.size, 0, #[], rfl, hk, heap_alloc_new V _, Nat.le_refl _, by decide, rfl, rfl⟩⟩, by simp⟩

set_option maxRecDepth 10000 in
theorem mode5_any (mode : Int) (w : World) : Calls Tryz.prog 68 #[.int .i64 mode] w fun e w' => e = .returned (.tuple #[.int .i64 (modeB mode : Int), .int .i64 (modeF mode : Int)]) ∧ w' = w := by
  by_cases h1 : mode = 1
  · subst h1
    go_enter Tryz.func68, Tryz.ntmps68
    go_wp2_with fail
    go_ret2
    exact ⟨rfl, rfl⟩
  · have h1' : (mode == 1) = false := by simp; omega
    by_cases h3 : mode = 3
    · subst h3
      go_enter Tryz.func68, Tryz.ntmps68
      go_wp2_with fail
      go_ret2
      exact ⟨rfl, rfl⟩
    · have h3' : (mode == 3) = false := by simp; omega
      go_enter Tryz.func68, Tryz.ntmps68
      go_wp2_with fail
      go_ret2
      refine ⟨?_, rfl⟩
      rw [modeB, modeF, if_neg h1, if_neg h1, if_neg h3]
      rfl

theorem mode_ok (mode : Int) : 1 ≤ modeB mode ∧ modeB mode ≤ 8 ∧ modeF mode ≤ 255 := by
  unfold modeB modeF
  split
  · decide
  · split <;> decide

set_option maxRecDepth 10000 in
set_option maxHeartbeats 3200000 in
theorem specPutF_any (m : Int) (a : Option Addr) (len ca : Nat) (xs : List Fld) (x y : ByteArray) (mode : Int) (w : World) (hx : Flds w a len xs) (hf : x.size ≤ maxLen ∧ y.size ≤ maxLen) (hl : len + (x.size + y.size) + fldBytes xs ≤ 1048576) :
    Calls Tryz.prog 45 #[.agg #[.int .i64 m, .slice a len ca], .agg #[.string x, .string y], .int .i64 mode] w fun e w' => ∃ (q : List Int) (a' : Option Addr) (c' : Nat) (v : Value) (n : Nat) (ys : List Fld), e = .returned (.tuple #[.slice a' q.length c', .agg #[.int .i64 m, v]]) ∧ PutAns m xs x y mode q ys ∧ Owns w' w.heap.size a' q.length c' q ∧ OwnF w' w.heap.size v n ys ∧ Below w.heap.size w w' := by
  have HX : Hid (Flds w a len xs) := hx
  have hlen := hx.1
  clear hx
  obtain ⟨w2, hw2⟩ : ∃ w2, ((w.alloc (.cells #[.int .i64 m, .slice a len ca] 32)).alloc (.cells #[.string x, .string y] 69)).alloc (.cells #[.int .i64 0, .slice none 0 0] 32) = w2 := ⟨_, rfl⟩
  have q1 : Box2 w2 w.heap.size 32 (.int .i64 m) (.slice a len ca) := by rw [← hw2]; exact ((Box2.new _ _ _ _).alloc _).alloc _
  have q3 : Box2 w2 (w.heap.size + 1) 69 (.string x) (.string y) := by
    rw [← hw2]
    have := (Box2.new (w.alloc (.cells #[.int .i64 m, .slice a len ca] 32)) 69 (.string x) (.string y)).alloc (.cells #[.int .i64 0, .slice none 0 0] 32)
    rwa [World.size_alloc] at this
  have q2 : Box2 w2 (w.heap.size + 1 + 1) 32 (.int .i64 0) (.slice none 0 0) := by
    rw [← hw2]
    have := Box2.new ((w.alloc (.cells #[.int .i64 m, .slice a len ca] 32)).alloc (.cells #[.string x, .string y] 69)) 32 (.int .i64 0) (.slice none 0 0)
    rwa [World.size_alloc, World.size_alloc] at this
  have HB2 : Hid (Below w.heap.size w w2) := by show Below _ _ _; rw [← hw2]; exact (((Below.refl _ _).alloc (Nat.le_refl _) _).alloc (by simp) _).alloc (by simp; omega) _
  have HW2 : Hid (w2.heap.size = w.heap.size + 3) := by show _ = _; rw [← hw2]; simp
  obtain ⟨c0, c1, _, _⟩ := q1.cells
  go_enter Tryz.func45, Tryz.ntmps45
  go_wp2_with fail
  refine (specCopy_any m a len ca xs _ (HX.out.below HB2.out) (by omega)).mono ?_
  rintro e w3 ⟨v3, rfl, ho3, hb3⟩
  obtain ⟨a3, c3, rfl⟩ := ho3.shape
  obtain ⟨w4, hw4⟩ : ∃ w4, w3.alloc (.cells #[.int .i64 m, .slice a3 len c3] 32) = w4 := ⟨_, rfl⟩
  have hb34 : Below w3.heap.size w3 w4 := by rw [← hw4]; exact (Below.refl _ _).alloc (Nat.le_refl _) _
  have hb24 : Below w2.heap.size w2 w4 := hb3.trans (hb34.mono hb3.size)
  have q4 : Box2 w4 w3.heap.size 32 (.int .i64 m) (.slice a3 len c3) := by rw [← hw4]; exact Box2.new _ _ _ _
  have HO4 : Hid (OwnF w4 w2.heap.size (.slice a3 len c3) len xs) := ho3.stays hb34
  have HBS : Hid (w2.heap.size ≤ w3.heap.size) := hb3.size
  have HQ : Hid (∀ W, Below w4.heap.size w4 W → Box2 W w.heap.size 32 (.int .i64 m) (.slice a len ca) ∧ Box2 W (w.heap.size + 1 + 1) 32 (.int .i64 0) (.slice none 0 0) ∧ Flds W a len xs ∧ Below w.heap.size w W ∧ Box2 W (w.heap.size + 1) 69 (.string x) (.string y) ∧ Box2 W w3.heap.size 32 (.int .i64 m) (.slice a3 len c3) ∧ OwnF W w2.heap.size (.slice a3 len c3) len xs) := fun W h =>
    have h2 := hb24.trans (h.mono hb24.size)
    have hb := HB2.out.trans (h2.mono HB2.out.size)
    ⟨q1.stays h2, q2.stays h2, HX.out.below hb, hb, q3.stays h2, q4.stays h, HO4.out.stays h⟩
  have HZ4 : Hid (w2.heap.size ≤ w4.heap.size ∧ w3.heap.size < w4.heap.size) := ⟨hb24.size, q4.lt⟩
  have HC : Hid (∀ (v : Value) (k : Nat) (W : World) (ys : List Fld) (m' : Int) (base : Nat), Below w4.heap.size w4 W → w2.heap.size ≤ base → OwnF W base v k ys → Below w.heap.size w ((W.setCell ⟨w.heap.size + 1 + 1, 0, none⟩ (.int .i64 m')).setCell ⟨w.heap.size + 1 + 1, 1, none⟩ v) ∧ Box2 ((W.setCell ⟨w.heap.size + 1 + 1, 0, none⟩ (.int .i64 m')).setCell ⟨w.heap.size + 1 + 1, 1, none⟩ v) (w.heap.size + 1 + 1) 32 (.int .i64 m') v ∧ OwnF ((W.setCell ⟨w.heap.size + 1 + 1, 0, none⟩ (.int .i64 m')).setCell ⟨w.heap.size + 1 + 1, 1, none⟩ v) w.heap.size v k ys) := fun v k W ys m' base hW hbase ho =>
    put_box (HQ.out _ hW).2.2.2.1 (by omega) (HQ.out _ hW).2.1 (by have := HW2.out; omega) ho m'
  have HD : Hid (∀ (W : World) (base : Nat) (a' : Option Addr) (n c : Nat) (zs : List Int) (u v : Value), w2.heap.size ≤ base → Owns W base a' n c zs → Owns ((W.setCell ⟨w.heap.size + 1 + 1, 0, none⟩ u).setCell ⟨w.heap.size + 1 + 1, 1, none⟩ v) w.heap.size a' n c zs) := by
    intro W base a' n c zs u v hbase ho
    have hz := HW2.out
    exact ⟨own_lower (ownsRow_setCell_below (ownsRow_setCell_below ho.1 (a := ⟨w.heap.size + 1 + 1, 0, none⟩) (show w.heap.size + 1 + 1 < base by omega) _) (a := ⟨w.heap.size + 1 + 1, 1, none⟩) (show w.heap.size + 1 + 1 < base by omega) _) (by omega), ho.2⟩
  obtain ⟨d0, d1, _, _⟩ := (HQ.out _ (Below.refl _ _)).1.cells
  clear c0 c1 hw2 q1 q2 q3 q4 hb3 hb34 hb24 ho3 HO4
  go_wp2_with fail
  clear hw4
  generalize w3.heap.size = bs at *
  refine (specOk_any m a len ca xs _ (HQ.out _ (Below.refl _ _)).2.2.1 (by omega)).mono ?_
  rintro e w5 ⟨rfl, hb5⟩
  have HB5 : Hid (Below w4.heap.size w4 w5) := hb5
  clear hb5 d0 d1
  cases hok : okT m xs with
  | false =>
    have HNo : Hid (¬ (okT m xs = true ∧ 1 ≤ mode ∧ mode ≤ 3)) := fun h => by rw [hok] at h; cases h.1
    have HBW : Hid (Below w4.heap.size w4 w5) := HB5.out
    clear hok
    obtain ⟨d0, d1, _, _⟩ := (HQ.out _ HBW.out).2.2.2.2.2.1.cells
    obtain ⟨e0, e1, e2, e3⟩ := (HQ.out _ HBW.out).2.1.cells
    obtain ⟨f0, f1, _, _⟩ := ((HQ.out _ HBW.out.drew).2.2.2.2.2.1.alloc (.cells #[] 5)).cells
    obtain ⟨g0, g1, g2, g3⟩ := ((HQ.out _ HBW.out.drew).2.1.alloc (.cells #[] 5)).cells
    have hbr : bs < w5.heap.size := (HQ.out _ HBW.out).2.2.2.2.2.1.lt
    have hbr1 : w.heap.size + 1 + 1 < w5.heap.size := (HQ.out _ HBW.out).2.1.lt
    have hbr2 : ¬ w5.heap.size = bs := by omega
    have hbr3 : ¬ bs = w5.heap.size := by omega
    have hbr4 : ¬ w5.heap.size = w.heap.size + 1 + 1 := by omega
    have hbr5 : ¬ w.heap.size + 1 + 1 = w5.heap.size := by omega
    go_wp2_with fail
    have hb6 : Below w4.heap.size w4 (w5.drew.alloc (.cells #[] 5)) := HBW.out.drew.alloc HBW.out.size _
    have hwz : w2.heap.size ≤ w5.heap.size := by have := HZ4.out.1; have := HBW.out.size; omega
    have ho6 : Owns (w5.drew.alloc (.cells #[] 5)) w5.heap.size (some ⟨w5.heap.size, 0, none⟩) 0 0 [] := ⟨⟨rfl, .inr ⟨w5.heap.size, 0, #[], rfl, Nat.le_refl _, heap_alloc_new w5.drew _, Nat.le_refl _, by decide, rfl, rfl⟩⟩, by simp⟩
    have HF : Hid _ := HC.out _ _ _ _ m _ hb6 (Nat.le_refl _) (HQ.out _ hb6).2.2.2.2.2.2
    have HD5 : Hid _ := HD.out _ w5.heap.size _ _ _ _ (.int .i64 m) (.slice a3 len c3) hwz ho6
    have hF2 := HC.out _ _ _ _ m _ HBW.out (Nat.le_refl _) (HQ.out _ HBW.out).2.2.2.2.2.2
    have HF2 : Hid _ := late_new hF2.1 hF2.2.1 hF2.2.2
    have HZ5 : Hid (w.heap.size ≤ w5.heap.size) := by have := HB2.out.size; show _ ≤ _; omega
    clear hb6 ho6 hF2
    go_region
    all_goals
      clear d0 d1 e0 e1 e2 e3 f0 f1 g0 g1 g2 g3 hbr hbr1 hbr2 hbr3 hbr4 hbr5
      go_wp2_with fail
      first
        | (obtain ⟨r0, r1⟩ := ret_tab HF.out.2.1
           refine bodyPost_ret (v := .tuple #[.slice (some ⟨w5.heap.size, 0, none⟩) 0 0, .agg #[.int .i64 m, .slice a3 len c3]]) (by simp [results, Tryz.f45, go_sem]) rfl ?_
           exact ⟨[], _, _, _, len, xs, rfl, .inr ⟨HNo.out, rfl, rfl⟩, HD5.out, HF.out.2.2, HF.out.1⟩)
        | (obtain ⟨r0, r1⟩ := ret_tab HF2.out.2.1
           refine bodyPost_ret (v := .tuple #[.slice (some ⟨w5.heap.size, 0, none⟩) 0 0, .agg #[.int .i64 m, .slice a3 len c3]]) (by simp only [World.cell?_drew] at r0 r1; simp [results, Tryz.f45, go_sem, r0, r1]) rfl ?_
           exact ⟨[], _, _, _, len, xs, rfl, .inr ⟨HNo.out, rfl, rfl⟩, HF2.out.2.2.2 _ (by simp) HZ5.out, HF2.out.2.2.1, HF2.out.1⟩)
  | true =>
    by_cases hm : 1 ≤ mode ∧ mode ≤ 3
    · have HYes : Hid (okT m xs = true ∧ 1 ≤ mode ∧ mode ≤ 3) := ⟨hok, hm.1, hm.2⟩
      have hmm : 0 ≤ m ∧ m ≤ 4096 := by unfold okT at hok; rw [decide_eq_true_eq] at hok; exact ⟨hok.1, hok.2.1⟩
      have HOk : Hid (okT m xs = true) := hok
      clear hok
      go_wp2_with fail
      refine (tin_yes mode 1 3 _ hm.1 hm.2).mono ?_
      rintro e w6 ⟨rfl, rfl⟩
      obtain ⟨d0, d1, _, _⟩ := (HQ.out _ HB5.out).1.cells
      obtain ⟨d2, d3, _, _⟩ := (HQ.out _ HB5.out).2.2.2.2.1.cells
      go_wp2_with fail
      refine (specFind_any m a len ca xs x y _ (HQ.out _ HB5.out).2.2.1 (by omega)).mono ?_
      rintro e w7 ⟨i, b, rfl, hfa, hb7⟩
      obtain ⟨hi0, hi1⟩ := find_bound hfa
      rw [List.length_append, firstL_len] at hi1
      obtain ⟨I, rfl⟩ := Int.eq_ofNat_of_zero_le hi0
      have HFA : Hid (FindAns (firstL ++ xs) (x, y) (I : Int) b) := hfa
      have HB7 : Hid (Below w4.heap.size w4 w7) := HB5.out.trans (hb7.mono HB5.out.size)
      have hI : I ≤ 16777216 := by omega
      have HZ7 : Hid (w2.heap.size ≤ w7.heap.size) := by have := HZ4.out.1; have := HB7.out.size; show _ ≤ _; omega
      clear hfa hb7 d0 d1 d2 d3 hi0 hi1
      by_cases hboth : b = true ∧ mode ≠ 3
      · obtain ⟨rfl, hm3⟩ := hboth
        have hne3 : (mode != 3) = true := by simp; omega
        obtain ⟨d0, d1, _, _⟩ := (HQ.out _ HB7.out).2.2.2.2.2.1.cells
        obtain ⟨e0, e1, e2, e3⟩ := (HQ.out _ HB7.out).2.1.cells
        obtain ⟨f0, f1, _, _⟩ := ((HQ.out _ HB7.out.drew).2.2.2.2.2.1.alloc (.cells #[] 5)).cells
        have hbr : bs < w7.heap.size := (HQ.out _ HB7.out).2.2.2.2.2.1.lt
        have hbr2 : ¬ w7.heap.size = bs := by omega
        have hbr3 : ¬ bs = w7.heap.size := by omega
        have HPe : Hid (putPfx [] 7 128 (I : Int) = pfx 7 128 I) := by
          show _ = _
          rw [putPfx, if_pos (by decide), List.nil_append]
          congr 1
          omega
        have HP7 : Hid (Calls Tryz.prog 67 #[.slice (some ⟨w7.heap.size, 0, none⟩) 0 0, .int .i64 7, .int .i64 128, .int .i64 I] (w7.drew.alloc (.cells #[] 5)) fun e w' => ∃ a' c', e = .returned (.slice a' (pfx 7 128 I).length c') ∧ Owns w' (w7.heap.size + 1) a' (pfx 7 128 I).length c' (pfx 7 128 I) ∧ Below (w7.heap.size + 1) (w7.drew.alloc (.cells #[] 5)) w') := by
          have h := specPfx_any w7.heap.size 0 0 0 7 128 (I : Int) [] (w7.drew.alloc (.cells #[] 5)) ⟨rfl, by simp, .inl rfl⟩ (by omega)
          rw [HPe.out, World.size_alloc] at h
          exact h
        go_wp2_with fail
        go_region_with (first
          | (go_at_call 67; refine HP7.out.mono ?_; rintro e y1 ⟨a1, c1, rfl, ho1, hb1⟩; have hb1' : Below w4.heap.size w4 y1 := (HB7.out.drew.alloc HB7.out.size _).trans (hb1.mono (by have := HB7.out.size; omega)); obtain ⟨s0, s1, _, _⟩ := (HQ.out _ hb1').2.2.2.2.2.1.cells; obtain ⟨s4, s5, s6, s7⟩ := (HQ.out _ hb1').2.1.cells))
        all_goals
          have HF : Hid _ := HC.out _ _ _ _ m _ hb1' (Nat.le_refl _) (HQ.out _ hb1').2.2.2.2.2.2
          have HD5 : Hid _ := HD.out y1 (w7.heap.size + 1) _ _ _ _ (.int .i64 m) (.slice a3 len c3) (by have := HZ7.out; omega) ho1
          clear ho1 hb1 hb1' d0 d1 e0 e1 e2 e3 f0 f1 s0 s1 hbr hbr2 hbr3
          go_wp2_with fail
          obtain ⟨r0, r1⟩ := ret_tab HF.out.2.1
          refine bodyPost_ret (v := .tuple #[.slice a1 (pfx 7 128 I).length c1, .agg #[.int .i64 m, .slice a3 len c3]]) (by simp [results, Tryz.f45, go_sem, r0, r1]) rfl ?_
          exact ⟨pfx 7 128 I, _, _, _, len, xs, rfl, .inl ⟨HYes.out, I, true, HFA.out, .inl ⟨rfl, hm3, rfl⟩, .inr ⟨by simp, rfl⟩⟩, HD5.out, HF.out.2.2, HF.out.1⟩
      · skip
        have HBF : Hid (¬ (b = true ∧ mode ≠ 3)) := hboth
        obtain ⟨hB1, hB8, hF8⟩ := mode_ok mode
        have HM : Hid (∀ W : World, Calls Tryz.prog 68 #[.int .i64 mode] W fun e w' => e = .returned (.tuple #[.int .i64 (modeB mode : Int), .int .i64 (modeF mode : Int)]) ∧ w' = W) := fun W => mode5_any mode W
        have HLit : Hid (∀ q, LitOf (modeB mode) (modeF mode) I x y q → FormOf mode b I x y q) := fun q h => .inr ⟨hboth, h⟩
        have HEnd1 : Hid (mode = 1 → ∀ k, FitN m.toNat ((x, y) :: xs) k → (mode = 1 ∧ b = false ∧ AddAns m xs (x, y) (((x, y) :: xs).take k)) ∨ (¬ (mode = 1 ∧ b = false) ∧ ((x, y) :: xs).take k = xs)) := by
          intro h1 k hk
          refine .inl ⟨h1, ?_, .inl ⟨HOk.out, k, hk, rfl⟩⟩
          cases b with
          | false => rfl
          | true => exact absurd ⟨rfl, by omega⟩ hboth
        have HEnd2 : Hid (mode ≠ 1 → (mode = 1 ∧ b = false ∧ AddAns m xs (x, y) xs) ∨ (¬ (mode = 1 ∧ b = false) ∧ xs = xs)) := fun h1 => .inr ⟨fun h => h1 h.1, rfl⟩
        have HSome : Hid (∀ q ys, FormOf mode b I x y q → ((mode = 1 ∧ b = false ∧ AddAns m xs (x, y) ys) ∨ (¬ (mode = 1 ∧ b = false) ∧ ys = xs)) → PutAns m xs x y mode q ys) := fun q ys h1 h2 => .inl ⟨HYes.out, I, b, HFA.out, h1, h2⟩
        have hb3 : b = false ∨ (b = true ∧ mode = 3) := by
          cases b with
          | false => exact .inl rfl
          | true =>
            right
            refine ⟨rfl, ?_⟩
            by_cases h : mode = 3
            · exact h
            · exact absurd ⟨rfl, h⟩ hboth
        generalize modeB mode = B at *
        generalize modeF mode = F at *
        clear HYes HOk hboth HFA
        have HPe : Hid (putPfx [] (B : Int) (F : Int) (I : Int) = pfx B F I) := by
          show _ = _
          rw [putPfx, if_pos ⟨by omega, by omega, by omega, by omega⟩, List.nil_append, Int.toNat_natCast, Int.toNat_natCast]
          congr 1
          omega
        have hpl := pfx_len B F I
        have hpl0 : 0 < (pfx B F I).length := by unfold pfx; split <;> simp
        have HPf : Hid (∀ q p v, q = pfx B F I ++ p ++ v → ((I = 0 ∧ StrOf x p) ∨ (I ≠ 0 ∧ p = [])) → StrOf y v → LitOf B F I x y q) := fun q p v h1 h2 h3 => ⟨p, v, h2, h3, h1⟩
        generalize hP : pfx B F I = P at *
        clear hP
        generalize hpn : P.length = pn at *
        have HPn : Hid (P.length = pn) := hpn
        clear hpn
        have HP7 : Hid (Calls Tryz.prog 67 #[.slice (some ⟨w7.heap.size, 0, none⟩) 0 0, .int .i64 B, .int .i64 F, .int .i64 I] (w7.alloc (.cells #[] 5)) fun e w' => ∃ g c', e = .returned (.slice (some ⟨g, 0, none⟩) pn c') ∧ Owns w' (w7.heap.size + 1) (some ⟨g, 0, none⟩) pn c' P ∧ Below (w7.heap.size + 1) (w7.alloc (.cells #[] 5)) w') := by
          have h := specPfx_any w7.heap.size 0 0 0 B F (I : Int) [] (w7.alloc (.cells #[] 5)) ⟨rfl, by simp, .inl rfl⟩ (by omega)
          rw [HPe.out, HPn.out, World.size_alloc] at h
          refine h.mono ?_
          rintro e w' ⟨a', c', rfl, ho, hb⟩
          obtain ⟨g, rfl, _, _⟩ := ho.some hpl0
          exact ⟨g, c', rfl, ho, hb⟩
        have hb7a : Below w4.heap.size w4 (w7.alloc (.cells #[] 5)) := HB7.out.alloc HB7.out.size _
        have HB7a : Hid (Below w4.heap.size w4 (w7.alloc (.cells #[] 5))) := hb7a
        have hw7s : w4.heap.size ≤ w7.heap.size + 1 := by have := HB7.out.size; omega
        clear hb7a
        rcases hb3 with rfl | ⟨rfl, rfl⟩
        · skip
          go_wp2_with fail
          refine (HM.out _).mono ?_
          rintro e w8 ⟨rfl, rfl⟩
          go_wp2_with fail
          refine HP7.out.mono ?_
          rintro e w9 ⟨g9, c9, rfl, ho9, hb9⟩
          have HB9 : Hid (Below w4.heap.size w4 w9) := HB7a.out.trans (hb9.mono hw7s)
          have HO9 : Hid (Owns w9 (w8.heap.size + 1) (some ⟨g9, 0, none⟩) pn c9 P) := ho9
          have HZ9 : Hid (w2.heap.size ≤ w9.heap.size) := by have h1 := HB9.out.size; have h2 := HZ4.out.1; show _ ≤ _; omega
          clear ho9 hb9 HP7 HM
          obtain ⟨c0, c1, _, _⟩ := (HQ.out _ HB9.out).2.2.2.2.1.cells
          by_cases h0 : I = 0
          · subst h0
            go_wp2_with fail
            refine (specPutS_any g9 0 pn c9 x P _ HO9.out.seg (by omega) (by omega)).mono ?_
            rintro e w10 ⟨p, a10, c10, hp, rfl, ho10, hb10⟩
            have HB10 : Hid (Below w4.heap.size w4 w10) := HB9.out.trans (hb10.mono HB9.out.size)
            have hrl : (P ++ p).length ≤ 1048700 := by have := hp.len; rw [List.length_append, HPn.out]; omega
            have HS : Hid (StrOf x p) := hp
            obtain ⟨g10, rfl, _, _⟩ := ho10.some (by rw [List.length_append, HPn.out]; omega)
            have HO10 : Hid (Owns w10 w9.heap.size (some ⟨g10, 0, none⟩) (P ++ p).length c10 (P ++ p)) := ho10
            clear hp ho10 hb10 c0 c1
            obtain ⟨R, hR⟩ : ∃ R, P ++ p = R := ⟨_, rfl⟩
            have HR : Hid (P ++ p = R) := hR
            rw [hR] at HO10 hrl ⊢
            clear hR
            obtain ⟨rn, hrn⟩ : ∃ rn, R.length = rn := ⟨_, rfl⟩
            rw [hrn] at HO10 hrl ⊢
            clear hrn
            obtain ⟨c0, c1, _, _⟩ := (HQ.out _ HB10.out).2.2.2.2.1.cells
            go_wp2_with fail
            refine (specPutS_any g10 0 rn c10 y R _ HO10.out.seg (by omega) (by omega)).mono ?_
            rintro e w11 ⟨v, a11, c11, hv, rfl, ho11, hb11⟩
            have HB11 : Hid (Below w4.heap.size w4 w11) := HB10.out.trans (hb11.mono HB10.out.size)
            have HO11 : Hid (Owns w11 w10.heap.size a11 (R ++ v).length c11 (R ++ v)) := ho11
            have HZ11 : Hid (w2.heap.size ≤ w10.heap.size) := by have h1 := HB10.out.size; have h2 := HZ4.out.1; show _ ≤ _; omega
            have HL11 : Hid (LitOf B F 0 x y (R ++ v)) := HPf.out _ p v (by rw [HR.out]) (by first | exact .inl ⟨rfl, HS.out⟩ | exact .inl ⟨trivial, HS.out⟩) hv
            clear hv ho11 hb11 c0 c1
            generalize R ++ v = S at *
            obtain ⟨sn, hsn⟩ : ∃ sn, S.length = sn := ⟨_, rfl⟩
            have HSn : Hid (S.length = sn) := hsn
            rw [hsn] at HO11 ⊢
            clear hsn
            obtain ⟨d0, d1, _, _⟩ := (HQ.out _ HB11.out).1.cells
            obtain ⟨d2, d3, _, _⟩ := (HQ.out _ HB11.out).2.2.2.2.1.cells
            obtain ⟨d4, d5, _, _⟩ := (HQ.out _ HB11.out).2.2.2.2.2.1.cells
            obtain ⟨d6, d7, d8, d9⟩ := (HQ.out _ HB11.out).2.1.cells
            by_cases hm1 : (mode : Int) = 1
            · have HM1 : Hid ((mode : Int) = 1) := hm1
              have hmb : ((mode : Int) == 1) = true := by simp; omega
              clear hm1
              go_wp2_with fail
              refine (specAdd4_any m a len ca xs x y _ (HQ.out _ HB11.out).2.2.1 hmm.1 hmm.2 hf (by omega)).mono ?_
              rintro e w12 ⟨vA, kA, rfl, hfit, hoA, hbA⟩
              obtain ⟨aA, cA, rfl⟩ := hoA.shape
              have hb12 : Below w4.heap.size w4 w12 := HB11.out.trans (hbA.mono HB11.out.size)
              have HEA : Hid _ := HEnd1.out HM1.out kA hfit
              have HF : Hid _ := HC.out _ _ _ _ m _ hb12 (by have h1 := HB11.out.size; have h2 := HZ4.out.1; omega) hoA
              have HD5 : Hid _ := HD.out w12 w10.heap.size _ _ _ _ (.int .i64 m) (.slice aA kA cA) HZ11.out (HO11.out.below hbA)
              obtain ⟨s4, s5, s6, s7⟩ := (HQ.out _ hb12).2.1.cells
              clear hfit hoA hbA hb12 d0 d1 d2 d3 d4 d5 d6 d7 d8 d9
              go_wp2_with fail
              obtain ⟨r0, r1⟩ := ret_tab HF.out.2.1
              refine bodyPost_ret (v := .tuple #[.slice a11 sn c11, .agg #[.int .i64 m, .slice aA kA cA]]) (by simp [results, Tryz.f45, go_sem, r0, r1]) rfl ?_
              exact ⟨S, _, _, _, kA, _, by rw [HSn.out], HSome.out _ _ (HLit.out _ HL11.out) HEA.out, by rw [HSn.out]; exact HD5.out, HF.out.2.2, HF.out.1⟩
            · have HM1 : Hid (¬ (mode : Int) = 1) := hm1
              have hmb : ((mode : Int) == 1) = false := by simp; omega
              have hF0 := HC.out _ _ _ _ m _ HB11.out (Nat.le_refl _) (HQ.out _ HB11.out).2.2.2.2.2.2
              have HF : Hid _ := drew_all hF0.1 hF0.2.1 hF0.2.2
              have HD5 : Hid _ := drew_own (HD.out w11 w10.heap.size _ _ _ _ (.int .i64 m) (.slice a3 len c3) HZ11.out HO11.out)
              go_wp2_with fail
              go_region
              all_goals
                clear d0 d1 d2 d3 d4 d5 d6 d7 d8 d9
                go_wp2_with fail
                obtain ⟨r0, r1⟩ := ret_tab HF.out.2.1
                refine bodyPost_ret (v := .tuple #[.slice a11 sn c11, .agg #[.int .i64 m, .slice a3 len c3]]) (by simp only [World.cell?_drew] at r0 r1; simp [results, Tryz.f45, go_sem, r0, r1]) rfl ?_
                exact ⟨S, _, _, _, len, _, by rw [HSn.out], HSome.out _ _ (HLit.out _ HL11.out) (by first | exact .inr ⟨fun h => HM1.out h.1, rfl⟩ | exact .inr ⟨fun h => HM1.out h.1, trivial⟩ | simp), by rw [HSn.out]; exact HD5.out, HF.out.2.2, HF.out.1⟩
          · have h0i : ((I : Int) == 0) = false := by simp; omega
            have h0j : ¬ (I : Int) = 0 := by omega
            go_wp2_with fail
            refine (specPutS_any g9 0 pn c9 y P _ HO9.out.seg (by omega) (by omega)).mono ?_
            rintro e w11 ⟨v, a11, c11, hv, rfl, ho11, hb11⟩
            have HB11 : Hid (Below w4.heap.size w4 w11) := HB9.out.trans (hb11.mono HB9.out.size)
            have HO11 : Hid (Owns w11 w9.heap.size a11 (P ++ v).length c11 (P ++ v)) := ho11
            have HL11 : Hid (LitOf B F I x y (P ++ v)) := HPf.out _ [] v (by rw [List.append_nil]) (.inr ⟨h0, rfl⟩) hv
            clear hv ho11 hb11 c0 c1
            generalize P ++ v = S at *
            obtain ⟨sn, hsn⟩ : ∃ sn, S.length = sn := ⟨_, rfl⟩
            have HSn : Hid (S.length = sn) := hsn
            rw [hsn] at HO11 ⊢
            clear hsn
            obtain ⟨d0, d1, _, _⟩ := (HQ.out _ HB11.out).1.cells
            obtain ⟨d2, d3, _, _⟩ := (HQ.out _ HB11.out).2.2.2.2.1.cells
            obtain ⟨d4, d5, _, _⟩ := (HQ.out _ HB11.out).2.2.2.2.2.1.cells
            obtain ⟨d6, d7, d8, d9⟩ := (HQ.out _ HB11.out).2.1.cells
            by_cases hm1 : (mode : Int) = 1
            · have HM1 : Hid ((mode : Int) = 1) := hm1
              have hmb : ((mode : Int) == 1) = true := by simp; omega
              clear hm1
              go_wp2_with fail
              refine (specAdd4_any m a len ca xs x y _ (HQ.out _ HB11.out).2.2.1 hmm.1 hmm.2 hf (by omega)).mono ?_
              rintro e w12 ⟨vA, kA, rfl, hfit, hoA, hbA⟩
              obtain ⟨aA, cA, rfl⟩ := hoA.shape
              have hb12 : Below w4.heap.size w4 w12 := HB11.out.trans (hbA.mono HB11.out.size)
              have HEA : Hid _ := HEnd1.out HM1.out kA hfit
              have HF : Hid _ := HC.out _ _ _ _ m _ hb12 (by have h1 := HB11.out.size; have h2 := HZ4.out.1; omega) hoA
              have HD5 : Hid _ := HD.out w12 w9.heap.size _ _ _ _ (.int .i64 m) (.slice aA kA cA) HZ9.out (HO11.out.below hbA)
              obtain ⟨s4, s5, s6, s7⟩ := (HQ.out _ hb12).2.1.cells
              clear hfit hoA hbA hb12 d0 d1 d2 d3 d4 d5 d6 d7 d8 d9
              go_wp2_with fail
              obtain ⟨r0, r1⟩ := ret_tab HF.out.2.1
              refine bodyPost_ret (v := .tuple #[.slice a11 sn c11, .agg #[.int .i64 m, .slice aA kA cA]]) (by simp [results, Tryz.f45, go_sem, r0, r1]) rfl ?_
              exact ⟨S, _, _, _, kA, _, by rw [HSn.out], HSome.out _ _ (HLit.out _ HL11.out) HEA.out, by rw [HSn.out]; exact HD5.out, HF.out.2.2, HF.out.1⟩
            · have HM1 : Hid (¬ (mode : Int) = 1) := hm1
              have hmb : ((mode : Int) == 1) = false := by simp; omega
              have hF0 := HC.out _ _ _ _ m _ HB11.out (Nat.le_refl _) (HQ.out _ HB11.out).2.2.2.2.2.2
              have HF : Hid _ := drew_all hF0.1 hF0.2.1 hF0.2.2
              have HD5 : Hid _ := drew_own (HD.out w11 w9.heap.size _ _ _ _ (.int .i64 m) (.slice a3 len c3) HZ9.out HO11.out)
              go_wp2_with fail
              go_region
              all_goals
                clear d0 d1 d2 d3 d4 d5 d6 d7 d8 d9
                go_wp2_with fail
                obtain ⟨r0, r1⟩ := ret_tab HF.out.2.1
                refine bodyPost_ret (v := .tuple #[.slice a11 sn c11, .agg #[.int .i64 m, .slice a3 len c3]]) (by simp only [World.cell?_drew] at r0 r1; simp [results, Tryz.f45, go_sem, r0, r1]) rfl ?_
                exact ⟨S, _, _, _, len, _, by rw [HSn.out], HSome.out _ _ (HLit.out _ HL11.out) (by first | exact .inr ⟨fun h => HM1.out h.1, rfl⟩ | exact .inr ⟨fun h => HM1.out h.1, trivial⟩ | simp), by rw [HSn.out]; exact HD5.out, HF.out.2.2, HF.out.1⟩
        · skip
          go_wp2_with fail
          refine (HM.out _).mono ?_
          rintro e w8 ⟨rfl, rfl⟩
          go_wp2_with fail
          refine HP7.out.mono ?_
          rintro e w9 ⟨g9, c9, rfl, ho9, hb9⟩
          have HB9 : Hid (Below w4.heap.size w4 w9) := HB7a.out.trans (hb9.mono hw7s)
          have HO9 : Hid (Owns w9 (w8.heap.size + 1) (some ⟨g9, 0, none⟩) pn c9 P) := ho9
          have HZ9 : Hid (w2.heap.size ≤ w9.heap.size) := by have h1 := HB9.out.size; have h2 := HZ4.out.1; show _ ≤ _; omega
          clear ho9 hb9 HP7 HM
          obtain ⟨c0, c1, _, _⟩ := (HQ.out _ HB9.out).2.2.2.2.1.cells
          by_cases h0 : I = 0
          · subst h0
            go_wp2_with fail
            refine (specPutS_any g9 0 pn c9 x P _ HO9.out.seg (by omega) (by omega)).mono ?_
            rintro e w10 ⟨p, a10, c10, hp, rfl, ho10, hb10⟩
            have HB10 : Hid (Below w4.heap.size w4 w10) := HB9.out.trans (hb10.mono HB9.out.size)
            have hrl : (P ++ p).length ≤ 1048700 := by have := hp.len; rw [List.length_append, HPn.out]; omega
            have HS : Hid (StrOf x p) := hp
            obtain ⟨g10, rfl, _, _⟩ := ho10.some (by rw [List.length_append, HPn.out]; omega)
            have HO10 : Hid (Owns w10 w9.heap.size (some ⟨g10, 0, none⟩) (P ++ p).length c10 (P ++ p)) := ho10
            clear hp ho10 hb10 c0 c1
            obtain ⟨R, hR⟩ : ∃ R, P ++ p = R := ⟨_, rfl⟩
            have HR : Hid (P ++ p = R) := hR
            rw [hR] at HO10 hrl ⊢
            clear hR
            obtain ⟨rn, hrn⟩ : ∃ rn, R.length = rn := ⟨_, rfl⟩
            rw [hrn] at HO10 hrl ⊢
            clear hrn
            obtain ⟨c0, c1, _, _⟩ := (HQ.out _ HB10.out).2.2.2.2.1.cells
            go_wp2_with fail
            refine (specPutS_any g10 0 rn c10 y R _ HO10.out.seg (by omega) (by omega)).mono ?_
            rintro e w11 ⟨v, a11, c11, hv, rfl, ho11, hb11⟩
            have HB11 : Hid (Below w4.heap.size w4 w11) := HB10.out.trans (hb11.mono HB10.out.size)
            have HO11 : Hid (Owns w11 w10.heap.size a11 (R ++ v).length c11 (R ++ v)) := ho11
            have HZ11 : Hid (w2.heap.size ≤ w10.heap.size) := by have h1 := HB10.out.size; have h2 := HZ4.out.1; show _ ≤ _; omega
            have HL11 : Hid (LitOf B F 0 x y (R ++ v)) := HPf.out _ p v (by rw [HR.out]) (by first | exact .inl ⟨rfl, HS.out⟩ | exact .inl ⟨trivial, HS.out⟩) hv
            clear hv ho11 hb11 c0 c1
            generalize R ++ v = S at *
            obtain ⟨sn, hsn⟩ : ∃ sn, S.length = sn := ⟨_, rfl⟩
            have HSn : Hid (S.length = sn) := hsn
            rw [hsn] at HO11 ⊢
            clear hsn
            obtain ⟨d0, d1, _, _⟩ := (HQ.out _ HB11.out).1.cells
            obtain ⟨d2, d3, _, _⟩ := (HQ.out _ HB11.out).2.2.2.2.1.cells
            obtain ⟨d4, d5, _, _⟩ := (HQ.out _ HB11.out).2.2.2.2.2.1.cells
            obtain ⟨d6, d7, d8, d9⟩ := (HQ.out _ HB11.out).2.1.cells
            by_cases hm1 : (3 : Int) = 1
            · have HM1 : Hid ((3 : Int) = 1) := hm1
              have hmb : ((3 : Int) == 1) = true := by simp; omega
              clear hm1
              go_wp2_with fail
              refine (specAdd4_any m a len ca xs x y _ (HQ.out _ HB11.out).2.2.1 hmm.1 hmm.2 hf (by omega)).mono ?_
              rintro e w12 ⟨vA, kA, rfl, hfit, hoA, hbA⟩
              obtain ⟨aA, cA, rfl⟩ := hoA.shape
              have hb12 : Below w4.heap.size w4 w12 := HB11.out.trans (hbA.mono HB11.out.size)
              have HEA : Hid _ := HEnd1.out HM1.out kA hfit
              have HF : Hid _ := HC.out _ _ _ _ m _ hb12 (by have h1 := HB11.out.size; have h2 := HZ4.out.1; omega) hoA
              have HD5 : Hid _ := HD.out w12 w10.heap.size _ _ _ _ (.int .i64 m) (.slice aA kA cA) HZ11.out (HO11.out.below hbA)
              obtain ⟨s4, s5, s6, s7⟩ := (HQ.out _ hb12).2.1.cells
              clear hfit hoA hbA hb12 d0 d1 d2 d3 d4 d5 d6 d7 d8 d9
              go_wp2_with fail
              obtain ⟨r0, r1⟩ := ret_tab HF.out.2.1
              refine bodyPost_ret (v := .tuple #[.slice a11 sn c11, .agg #[.int .i64 m, .slice aA kA cA]]) (by simp [results, Tryz.f45, go_sem, r0, r1]) rfl ?_
              exact ⟨S, _, _, _, kA, _, by rw [HSn.out], HSome.out _ _ (HLit.out _ HL11.out) HEA.out, by rw [HSn.out]; exact HD5.out, HF.out.2.2, HF.out.1⟩
            · have HM1 : Hid (¬ (3 : Int) = 1) := hm1
              have hmb : ((3 : Int) == 1) = false := by decide
              have hF0 := HC.out _ _ _ _ m _ HB11.out (Nat.le_refl _) (HQ.out _ HB11.out).2.2.2.2.2.2
              have HF : Hid _ := drew_all hF0.1 hF0.2.1 hF0.2.2
              have HD5 : Hid _ := drew_own (HD.out w11 w10.heap.size _ _ _ _ (.int .i64 m) (.slice a3 len c3) HZ11.out HO11.out)
              go_wp2_with fail
              go_region
              all_goals
                clear d0 d1 d2 d3 d4 d5 d6 d7 d8 d9
                go_wp2_with fail
                obtain ⟨r0, r1⟩ := ret_tab HF.out.2.1
                refine bodyPost_ret (v := .tuple #[.slice a11 sn c11, .agg #[.int .i64 m, .slice a3 len c3]]) (by simp only [World.cell?_drew] at r0 r1; simp [results, Tryz.f45, go_sem, r0, r1]) rfl ?_
                exact ⟨S, _, _, _, len, _, by rw [HSn.out], HSome.out _ _ (HLit.out _ HL11.out) (by first | exact .inr ⟨fun h => HM1.out h.1, rfl⟩ | exact .inr ⟨fun h => HM1.out h.1, trivial⟩ | simp), by rw [HSn.out]; exact HD5.out, HF.out.2.2, HF.out.1⟩
          · have h0i : ((I : Int) == 0) = false := by simp; omega
            have h0j : ¬ (I : Int) = 0 := by omega
            go_wp2_with fail
            refine (specPutS_any g9 0 pn c9 y P _ HO9.out.seg (by omega) (by omega)).mono ?_
            rintro e w11 ⟨v, a11, c11, hv, rfl, ho11, hb11⟩
            have HB11 : Hid (Below w4.heap.size w4 w11) := HB9.out.trans (hb11.mono HB9.out.size)
            have HO11 : Hid (Owns w11 w9.heap.size a11 (P ++ v).length c11 (P ++ v)) := ho11
            have HL11 : Hid (LitOf B F I x y (P ++ v)) := HPf.out _ [] v (by rw [List.append_nil]) (.inr ⟨h0, rfl⟩) hv
            clear hv ho11 hb11 c0 c1
            generalize P ++ v = S at *
            obtain ⟨sn, hsn⟩ : ∃ sn, S.length = sn := ⟨_, rfl⟩
            have HSn : Hid (S.length = sn) := hsn
            rw [hsn] at HO11 ⊢
            clear hsn
            obtain ⟨d0, d1, _, _⟩ := (HQ.out _ HB11.out).1.cells
            obtain ⟨d2, d3, _, _⟩ := (HQ.out _ HB11.out).2.2.2.2.1.cells
            obtain ⟨d4, d5, _, _⟩ := (HQ.out _ HB11.out).2.2.2.2.2.1.cells
            obtain ⟨d6, d7, d8, d9⟩ := (HQ.out _ HB11.out).2.1.cells
            by_cases hm1 : (3 : Int) = 1
            · have HM1 : Hid ((3 : Int) = 1) := hm1
              have hmb : ((3 : Int) == 1) = true := by simp; omega
              clear hm1
              go_wp2_with fail
              refine (specAdd4_any m a len ca xs x y _ (HQ.out _ HB11.out).2.2.1 hmm.1 hmm.2 hf (by omega)).mono ?_
              rintro e w12 ⟨vA, kA, rfl, hfit, hoA, hbA⟩
              obtain ⟨aA, cA, rfl⟩ := hoA.shape
              have hb12 : Below w4.heap.size w4 w12 := HB11.out.trans (hbA.mono HB11.out.size)
              have HEA : Hid _ := HEnd1.out HM1.out kA hfit
              have HF : Hid _ := HC.out _ _ _ _ m _ hb12 (by have h1 := HB11.out.size; have h2 := HZ4.out.1; omega) hoA
              have HD5 : Hid _ := HD.out w12 w9.heap.size _ _ _ _ (.int .i64 m) (.slice aA kA cA) HZ9.out (HO11.out.below hbA)
              obtain ⟨s4, s5, s6, s7⟩ := (HQ.out _ hb12).2.1.cells
              clear hfit hoA hbA hb12 d0 d1 d2 d3 d4 d5 d6 d7 d8 d9
              go_wp2_with fail
              obtain ⟨r0, r1⟩ := ret_tab HF.out.2.1
              refine bodyPost_ret (v := .tuple #[.slice a11 sn c11, .agg #[.int .i64 m, .slice aA kA cA]]) (by simp [results, Tryz.f45, go_sem, r0, r1]) rfl ?_
              exact ⟨S, _, _, _, kA, _, by rw [HSn.out], HSome.out _ _ (HLit.out _ HL11.out) HEA.out, by rw [HSn.out]; exact HD5.out, HF.out.2.2, HF.out.1⟩
            · have HM1 : Hid (¬ (3 : Int) = 1) := hm1
              have hmb : ((3 : Int) == 1) = false := by decide
              have hF0 := HC.out _ _ _ _ m _ HB11.out (Nat.le_refl _) (HQ.out _ HB11.out).2.2.2.2.2.2
              have HF : Hid _ := drew_all hF0.1 hF0.2.1 hF0.2.2
              have HD5 : Hid _ := drew_own (HD.out w11 w9.heap.size _ _ _ _ (.int .i64 m) (.slice a3 len c3) HZ9.out HO11.out)
              go_wp2_with fail
              go_region
              all_goals
                clear d0 d1 d2 d3 d4 d5 d6 d7 d8 d9
                go_wp2_with fail
                obtain ⟨r0, r1⟩ := ret_tab HF.out.2.1
                refine bodyPost_ret (v := .tuple #[.slice a11 sn c11, .agg #[.int .i64 m, .slice a3 len c3]]) (by simp only [World.cell?_drew] at r0 r1; simp [results, Tryz.f45, go_sem, r0, r1]) rfl ?_
                exact ⟨S, _, _, _, len, _, by rw [HSn.out], HSome.out _ _ (HLit.out _ HL11.out) (by first | exact .inr ⟨fun h => HM1.out h.1, rfl⟩ | exact .inr ⟨fun h => HM1.out h.1, trivial⟩ | simp), by rw [HSn.out]; exact HD5.out, HF.out.2.2, HF.out.1⟩
    · have HNo : Hid (¬ (okT m xs = true ∧ 1 ≤ mode ∧ mode ≤ 3)) := fun h => hm ⟨h.2.1, h.2.2⟩
      have HBW : Hid (Below w4.heap.size w4 w5) := HB5.out
      clear hok
      go_wp2_with fail
      refine (tin_no mode 1 3 _ (by omega)).mono ?_
      rintro e w6 ⟨rfl, rfl⟩
      obtain ⟨d0, d1, _, _⟩ := (HQ.out _ HBW.out).2.2.2.2.2.1.cells
      obtain ⟨e0, e1, e2, e3⟩ := (HQ.out _ HBW.out).2.1.cells
      obtain ⟨f0, f1, _, _⟩ := ((HQ.out _ HBW.out.drew).2.2.2.2.2.1.alloc (.cells #[] 5)).cells
      obtain ⟨g0, g1, g2, g3⟩ := ((HQ.out _ HBW.out.drew).2.1.alloc (.cells #[] 5)).cells
      have hbr : bs < w6.heap.size := (HQ.out _ HBW.out).2.2.2.2.2.1.lt
      have hbr1 : w.heap.size + 1 + 1 < w6.heap.size := (HQ.out _ HBW.out).2.1.lt
      have hbr2 : ¬ w6.heap.size = bs := by omega
      have hbr3 : ¬ bs = w6.heap.size := by omega
      have hbr4 : ¬ w6.heap.size = w.heap.size + 1 + 1 := by omega
      have hbr5 : ¬ w.heap.size + 1 + 1 = w6.heap.size := by omega
      go_wp2_with fail
      have hb6 : Below w4.heap.size w4 (w6.drew.alloc (.cells #[] 5)) := HBW.out.drew.alloc HBW.out.size _
      have hwz : w2.heap.size ≤ w6.heap.size := by have := HZ4.out.1; have := HBW.out.size; omega
      have ho6 : Owns (w6.drew.alloc (.cells #[] 5)) w6.heap.size (some ⟨w6.heap.size, 0, none⟩) 0 0 [] := ⟨⟨rfl, .inr ⟨w6.heap.size, 0, #[], rfl, Nat.le_refl _, heap_alloc_new w6.drew _, Nat.le_refl _, by decide, rfl, rfl⟩⟩, by simp⟩
      have HF : Hid _ := HC.out _ _ _ _ m _ hb6 (Nat.le_refl _) (HQ.out _ hb6).2.2.2.2.2.2
      have HD5 : Hid _ := HD.out _ w6.heap.size _ _ _ _ (.int .i64 m) (.slice a3 len c3) hwz ho6
      have hF2 := HC.out _ _ _ _ m _ HBW.out (Nat.le_refl _) (HQ.out _ HBW.out).2.2.2.2.2.2
      have HF2 : Hid _ := late_new hF2.1 hF2.2.1 hF2.2.2
      have HZ5 : Hid (w.heap.size ≤ w6.heap.size) := by have := HB2.out.size; show _ ≤ _; omega
      clear hb6 ho6 hF2
      go_region
      all_goals
        clear d0 d1 e0 e1 e2 e3 f0 f1 g0 g1 g2 g3 hbr hbr1 hbr2 hbr3 hbr4 hbr5
        go_wp2_with fail
        first
          | (obtain ⟨r0, r1⟩ := ret_tab HF.out.2.1
             refine bodyPost_ret (v := .tuple #[.slice (some ⟨w6.heap.size, 0, none⟩) 0 0, .agg #[.int .i64 m, .slice a3 len c3]]) (by simp [results, Tryz.f45, go_sem]) rfl ?_
             exact ⟨[], _, _, _, len, xs, rfl, .inr ⟨HNo.out, rfl, rfl⟩, HD5.out, HF.out.2.2, HF.out.1⟩)
          | (obtain ⟨r0, r1⟩ := ret_tab HF2.out.2.1
             refine bodyPost_ret (v := .tuple #[.slice (some ⟨w6.heap.size, 0, none⟩) 0 0, .agg #[.int .i64 m, .slice a3 len c3]]) (by simp only [World.cell?_drew] at r0 r1; simp [results, Tryz.f45, go_sem, r0, r1]) rfl ?_
             exact ⟨[], _, _, _, len, xs, rfl, .inr ⟨HNo.out, rfl, rfl⟩, HF2.out.2.2.2 _ (by simp) HZ5.out, HF2.out.2.2.1, HF2.out.1⟩)

end Go.Proofs.YtbaijmkghgnleaaGreatDoor
