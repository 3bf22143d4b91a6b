/- What the program's PutField answers. -/
import Derived.Test.YtbaijmkghgnleaaGreatDoorM20
import Derived.Test.YtbaijmkghgnleaaGreatDoorM21
import Derived.Deep.RegionWith
import Derived.Deep.RegionHeld3
namespace Go.Proofs.YtbaijmkghgnleaaGreatDoor
open Go.RowKit
set_option linter.unusedVariables false

/-- How many bits a mode has for a number, and what stands ahead of them. -/
def modeB (mode : Int) : Nat := if mode = 1 then 6 else 4
def modeF (mode : Int) : Nat := if mode = 1 then 64 else if mode = 3 then 16 else 0

def FormOf (mode : Int) (b : Bool) (i : Nat) (x y : ByteArray) (q : List Int) : Prop :=
  (b = true ∧ mode ≠ 3 ∧ q = pfx 7 128 i) ∨ (¬ (b = true ∧ mode ≠ 3) ∧ LitOf (modeB mode) (modeF mode) i x y q)

theorem FormOf.one {mode : Int} {b : Bool} {i : Nat} {x y : ByteArray} {q r : List Int} (h : FormOf mode b i x y q) (g : FormOf mode b i x y r) : q = r := by
  rcases h with ⟨h1, h2, rfl⟩ | ⟨h1, h2⟩ <;> rcases g with ⟨g1, g2, rfl⟩ | ⟨g1, g2⟩
  · rfl
  · exact absurd ⟨h1, h2⟩ g1
  · exact absurd ⟨g1, g2⟩ h1
  · exact h2.one g2

theorem FormOf.len {mode : Int} {b : Bool} {i : Nat} {x y : ByteArray} {q : List Int} (h : FormOf mode b i x y q) : q.length ≤ x.size + y.size + 18 := by
  rcases h with ⟨_, _, rfl⟩ | ⟨_, h⟩
  · have := pfx_len 7 128 i
    omega
  · exact h.len

theorem putForm_any (mode : Int) (b : Bool) (i : Nat) (x y : ByteArray) (w : World) (h1 : 1 ≤ mode) (h3 : mode ≤ 3) (hi : i ≤ 16777216) (hx : x.size ≤ 16777216) (hy : y.size ≤ 16777216) :
    Calls Tryz.prog 74 #[.iface (formT mode b) (.agg #[]), .int .i64 i, .agg #[.string x, .string y]] w fun e w' => ∃ (q : List Int) (a' : Option Addr) (cap' : Nat), FormOf mode b i x y q ∧ e = .returned (.slice a' q.length cap') ∧ Owns w' w.heap.size a' q.length cap' q ∧ Below w.heap.size w w' := by
  by_cases e3 : mode = 3
  · subst e3
    refine (putForm_never i x y w hi hx hy).mono ?_
    rintro e w' ⟨q, a', c', hq, r⟩
    exact ⟨q, a', c', .inr ⟨by simp, hq⟩, r⟩
  · cases b with
    | true =>
      have et : formT mode true = 109 := by rw [formT, if_neg e3, if_pos rfl]
      rw [et]
      refine (putForm_indexed i x y w hi hx hy).mono ?_
      rintro e w' ⟨q, a', c', hq, r⟩
      exact ⟨q, a', c', .inl ⟨rfl, e3, hq⟩, r⟩
    | false =>
      by_cases e1 : mode = 1
      · subst e1
        refine (putForm_add i x y w hi hx hy).mono ?_
        rintro e w' ⟨q, a', c', hq, r⟩
        exact ⟨q, a', c', .inr ⟨by simp, hq⟩, r⟩
      · obtain rfl : mode = 2 := by omega
        refine (putForm_plain i x y w hi hx hy).mono ?_
        rintro e w' ⟨q, a', c', hq, r⟩
        exact ⟨q, a', c', .inr ⟨by simp, hq⟩, r⟩

theorem formT_four (mode : Int) (b : Bool) : formT mode b = 108 ∨ formT mode b = 109 ∨ formT mode b = 110 ∨ formT mode b = 111 := by
  unfold formT
  split
  · exact .inl rfl
  · split
    · exact .inr (.inl rfl)
    · split
      · exact .inr (.inr (.inl rfl))
      · exact .inr (.inr (.inr rfl))

theorem formT_add (mode : Int) (b : Bool) : formT mode b = 110 ↔ mode = 1 ∧ b = false := by
  unfold formT
  by_cases h3 : mode = 3
  · rw [if_pos h3]
    constructor
    · intro h; cases h
    · rintro ⟨h, _⟩; omega
  · rw [if_neg h3]
    cases b with
    | true => simp
    | false =>
      by_cases h1 : mode = 1
      · simp [h1]
      · simp [h1]

/-- What PutField answers. -/
def PutAns (m : Int) (xs : List Fld) (x y : ByteArray) (mode : Int) (q : List Int) (ys : List Fld) : Prop :=
  ((okT m xs = true ∧ 1 ≤ mode ∧ mode ≤ 3) ∧ ∃ (i : Nat) (b : Bool), FindAns (firstL ++ xs) (x, y) i b ∧ FormOf mode b i x y q ∧ ((mode = 1 ∧ b = false ∧ AddAns m xs (x, y) ys) ∨ (¬ (mode = 1 ∧ b = false) ∧ ys = xs))) ∨
  (¬ (okT m xs = true ∧ 1 ≤ mode ∧ mode ≤ 3) ∧ q = [] ∧ ys = xs)

theorem PutAns.one {m : Int} {xs : List Fld} {x y : ByteArray} {mode : Int} {q r : List Int} {ys zs : List Fld} (h : PutAns m xs x y mode q ys) (g : PutAns m xs x y mode r zs) : q = r ∧ ys = zs := by
  rcases h with ⟨h0, i, b, h1, h2, h3⟩ | ⟨h0, rfl, rfl⟩ <;> rcases g with ⟨g0, j, c, g1, g2, g3⟩ | ⟨g0, rfl, rfl⟩
  · obtain ⟨e1, rfl⟩ := h1.one g1
    obtain rfl : i = j := by omega
    refine ⟨h2.one g2, ?_⟩
    rcases h3 with ⟨a1, a2, a3⟩ | ⟨a1, rfl⟩ <;> rcases g3 with ⟨b1, b2, b3⟩ | ⟨b1, rfl⟩
    · exact a3.one b3
    · exact absurd ⟨a1, a2⟩ b1
    · exact absurd ⟨b1, b2⟩ a1
    · rfl
  · exact absurd h0 g0
  · exact absurd g0 h0
  · exact ⟨rfl, rfl⟩

theorem find_bound {L : List Fld} {f : Fld} {i : Int} {b : Bool} (h : FindAns L f i b) : 0 ≤ i ∧ i ≤ L.length := by
  rcases h with ⟨_, k, h1, _, rfl⟩ | ⟨_, _, ⟨k, g, h1, _, _, rfl⟩ | ⟨_, rfl⟩⟩
  · have := (List.getElem?_eq_some_iff.1 h1).1
    omega
  · have := (List.getElem?_eq_some_iff.1 h1).1
    omega
  · omega

set_option maxRecDepth 10000 in
set_option maxHeartbeats 3200000 in
theorem implPutF_any (m : Int) (a : Option Addr) (len ca : Nat) (xs : List Fld) (x y : ByteArray) (mode : Int) (w : World) (hx : Flds w a len xs) (hf : x.size ≤ maxLen ∧ y.size ≤ maxLen) (hl : len + (x.size + y.size) + fldBytes xs ≤ 1048576) :
    Calls Tryz.prog 56 #[.agg #[.int .i64 m, .slice a len ca], .agg #[.string x, .string y], .int .i64 mode] w fun e w' => ∃ (q : List Int) (a' : Option Addr) (c' : Nat) (v : Value) (n : Nat) (ys : List Fld), e = .returned (.tuple #[.slice a' q.length c', .agg #[.int .i64 m, v]]) ∧ PutAns m xs x y mode q ys ∧ Owns w' w.heap.size a' q.length c' q ∧ OwnF w' w.heap.size v n ys ∧ Below w.heap.size w w' := by
  have HX : Hid (Flds w a len xs) := hx
  have hlen := hx.1
  clear hx
  obtain ⟨w2, hw2⟩ : ∃ w2, ((w.alloc (.cells #[.int .i64 m, .slice a len ca] 32)).alloc (.cells #[.string x, .string y] 69)).alloc (.cells #[.int .i64 0, .slice none 0 0] 32) = w2 := ⟨_, rfl⟩
  have q1 : Box2 w2 w.heap.size 32 (.int .i64 m) (.slice a len ca) := by rw [← hw2]; exact ((Box2.new _ _ _ _).alloc _).alloc _
  have q3 : Box2 w2 (w.heap.size + 1) 69 (.string x) (.string y) := by
    rw [← hw2]
    have := (Box2.new (w.alloc (.cells #[.int .i64 m, .slice a len ca] 32)) 69 (.string x) (.string y)).alloc (.cells #[.int .i64 0, .slice none 0 0] 32)
    rwa [World.size_alloc] at this
  have q2 : Box2 w2 (w.heap.size + 1 + 1) 32 (.int .i64 0) (.slice none 0 0) := by
    rw [← hw2]
    have := Box2.new ((w.alloc (.cells #[.int .i64 m, .slice a len ca] 32)).alloc (.cells #[.string x, .string y] 69)) 32 (.int .i64 0) (.slice none 0 0)
    rwa [World.size_alloc, World.size_alloc] at this
  have HB2 : Hid (Below w.heap.size w w2) := by show Below _ _ _; rw [← hw2]; exact (((Below.refl _ _).alloc (Nat.le_refl _) _).alloc (by simp) _).alloc (by simp; omega) _
  have HW2 : Hid (w2.heap.size = w.heap.size + 3) := by show _ = _; rw [← hw2]; simp
  have HQ : Hid (∀ W, Below w2.heap.size w2 W → Box2 W w.heap.size 32 (.int .i64 m) (.slice a len ca) ∧ Box2 W (w.heap.size + 1 + 1) 32 (.int .i64 0) (.slice none 0 0) ∧ Flds W a len xs ∧ Below w.heap.size w W ∧ Box2 W (w.heap.size + 1) 69 (.string x) (.string y)) := fun W h =>
    have hb := HB2.out.trans (h.mono HB2.out.size)
    ⟨q1.stays h, q2.stays h, HX.out.below hb, hb, q3.stays h⟩
  have HC : Hid (∀ (v : Value) (k : Nat) (W : World) (ys : List Fld) (m' : Int) (base : Nat), Below w2.heap.size w2 W → w2.heap.size ≤ base → OwnF W base v k ys → Below w.heap.size w ((W.setCell ⟨w.heap.size + 1 + 1, 0, none⟩ (.int .i64 m')).setCell ⟨w.heap.size + 1 + 1, 1, none⟩ v) ∧ Box2 ((W.setCell ⟨w.heap.size + 1 + 1, 0, none⟩ (.int .i64 m')).setCell ⟨w.heap.size + 1 + 1, 1, none⟩ v) (w.heap.size + 1 + 1) 32 (.int .i64 m') v ∧ OwnF ((W.setCell ⟨w.heap.size + 1 + 1, 0, none⟩ (.int .i64 m')).setCell ⟨w.heap.size + 1 + 1, 1, none⟩ v) w.heap.size v k ys) := fun v k W ys m' base hW hbase ho =>
    put_box (HQ.out _ hW).2.2.2.1 (by omega) (HQ.out _ hW).2.1 (by have := HW2.out; omega) ho m'
  have HD : Hid (∀ (W : World) (base : Nat) (a' : Option Addr) (n c : Nat) (zs : List Int) (u v : Value), w2.heap.size ≤ base → Owns W base a' n c zs → Owns ((W.setCell ⟨w.heap.size + 1 + 1, 0, none⟩ u).setCell ⟨w.heap.size + 1 + 1, 1, none⟩ v) w.heap.size a' n c zs) := by
    intro W base a' n c zs u v hbase ho
    have hz := HW2.out
    exact ⟨own_lower (ownsRow_setCell_below (ownsRow_setCell_below ho.1 (a := ⟨w.heap.size + 1 + 1, 0, none⟩) (show w.heap.size + 1 + 1 < base by omega) _) (a := ⟨w.heap.size + 1 + 1, 1, none⟩) (show w.heap.size + 1 + 1 < base by omega) _) (by omega), ho.2⟩
  obtain ⟨c0, c1, _, _⟩ := q1.cells
  clear q1 q2 q3
  go_enter Tryz.func56, Tryz.ntmps56
  go_wp2_with fail
  refine (implOk_any m a len ca xs _ (HQ.out _ (Below.refl _ _)).2.2.1 (by omega)).mono ?_
  rintro e w3 ⟨rfl, hb3⟩
  have HB3 : Hid (Below w2.heap.size w2 w3) := hb3
  obtain ⟨d0, d1, _, _⟩ := (HQ.out _ hb3).1.cells
  obtain ⟨d2, d3, _, _⟩ := (HQ.out _ hb3).2.2.2.2.cells
  clear hb3 c0 c1 hw2
  cases hok : okT m xs with
  | false =>
    have HNo : Hid (¬ (okT m xs = true ∧ 1 ≤ mode ∧ mode ≤ 3)) := fun h => by rw [hok] at h; cases h.1
    clear hok
    obtain ⟨w4, hw4⟩ : ∃ w4, w3.alloc (.cells #[] 5) = w4 := ⟨_, rfl⟩
    have hb34 : Below w3.heap.size w3 w4 := by rw [← hw4]; exact (Below.refl _ _).alloc (Nat.le_refl _) _
    have HB4 : Hid (Below w2.heap.size w2 w4) := HB3.out.trans (hb34.mono HB3.out.size)
    have HO4 : Hid (Owns w4 w3.heap.size (some ⟨w3.heap.size, 0, none⟩) 0 0 []) := by
      refine ⟨?_, by simp⟩
      rw [← hw4]
      exact ⟨rfl, .inr ⟨w3.heap.size, 0, #[], rfl, Nat.le_refl _, heap_alloc_new w3 _, Nat.le_refl _, by decide, rfl, rfl⟩⟩
    obtain ⟨t0, t1, _, _⟩ := (HQ.out _ HB4.out).1.cells
    clear hb34 d0 d1 d2 d3
    have HZ3 : Hid (w2.heap.size ≤ w3.heap.size) := HB3.out.size
    go_wp2_with fail
    clear hw4
    refine (implCopy_any m a len ca xs _ (HQ.out _ HB4.out).2.2.1 (by omega)).mono ?_
    rintro e w5 ⟨v5, rfl, ho5, hb5⟩
    obtain ⟨a5, c5, rfl⟩ := ho5.shape
    have hb5' : Below w2.heap.size w2 w5 := HB4.out.trans (hb5.mono HB4.out.size)
    have HO5 : Hid (Owns w5 w3.heap.size (some ⟨w3.heap.size, 0, none⟩) 0 0 []) := HO4.out.below hb5
    obtain ⟨g0, g1, g2, g3⟩ := (HQ.out _ hb5').2.1.cells
    have HF : Hid _ := HC.out _ _ _ _ m _ hb5' HB4.out.size ho5
    have HD5 : Hid _ := HD.out w5 w3.heap.size _ _ _ _ (.int .i64 m) (.slice a5 len c5) HZ3.out HO5.out
    clear ho5 hb5 hb5' t0 t1
    go_wp2_with fail
    obtain ⟨r0, r1⟩ := ret_tab HF.out.2.1
    refine bodyPost_ret (v := .tuple #[.slice (some ⟨w3.heap.size, 0, none⟩) 0 0, .agg #[.int .i64 m, .slice a5 len c5]]) (by simp [results, Tryz.f56, go_sem, r0, r1]) rfl ?_
    exact ⟨[], _, _, _, len, xs, rfl, .inr ⟨HNo.out, rfl, rfl⟩, HD5.out, HF.out.2.2, HF.out.1⟩
  | true =>
    by_cases hm1 : mode < 1
    · have HNo : Hid (¬ (okT m xs = true ∧ 1 ≤ mode ∧ mode ≤ 3)) := fun h => by omega
      have hmd : decide (mode < 1) = true := by simp; omega
      clear hok
      obtain ⟨w4, hw4⟩ : ∃ w4, w3.alloc (.cells #[] 5) = w4 := ⟨_, rfl⟩
      have hb34 : Below w3.heap.size w3 w4 := by rw [← hw4]; exact (Below.refl _ _).alloc (Nat.le_refl _) _
      have HB4 : Hid (Below w2.heap.size w2 w4) := HB3.out.trans (hb34.mono HB3.out.size)
      have HO4 : Hid (Owns w4 w3.heap.size (some ⟨w3.heap.size, 0, none⟩) 0 0 []) := by
        refine ⟨?_, by simp⟩
        rw [← hw4]
        exact ⟨rfl, .inr ⟨w3.heap.size, 0, #[], rfl, Nat.le_refl _, heap_alloc_new w3 _, Nat.le_refl _, by decide, rfl, rfl⟩⟩
      obtain ⟨t0, t1, _, _⟩ := (HQ.out _ HB4.out).1.cells
      clear hb34 d0 d1 d2 d3
      have HZ3 : Hid (w2.heap.size ≤ w3.heap.size) := HB3.out.size
      go_wp2_with fail
      clear hw4
      refine (implCopy_any m a len ca xs _ (HQ.out _ HB4.out).2.2.1 (by omega)).mono ?_
      rintro e w5 ⟨v5, rfl, ho5, hb5⟩
      obtain ⟨a5, c5, rfl⟩ := ho5.shape
      have hb5' : Below w2.heap.size w2 w5 := HB4.out.trans (hb5.mono HB4.out.size)
      have HO5 : Hid (Owns w5 w3.heap.size (some ⟨w3.heap.size, 0, none⟩) 0 0 []) := HO4.out.below hb5
      obtain ⟨g0, g1, g2, g3⟩ := (HQ.out _ hb5').2.1.cells
      have HF : Hid _ := HC.out _ _ _ _ m _ hb5' HB4.out.size ho5
      have HD5 : Hid _ := HD.out w5 w3.heap.size _ _ _ _ (.int .i64 m) (.slice a5 len c5) HZ3.out HO5.out
      clear ho5 hb5 hb5' t0 t1
      go_wp2_with fail
      obtain ⟨r0, r1⟩ := ret_tab HF.out.2.1
      refine bodyPost_ret (v := .tuple #[.slice (some ⟨w3.heap.size, 0, none⟩) 0 0, .agg #[.int .i64 m, .slice a5 len c5]]) (by simp [results, Tryz.f56, go_sem, r0, r1]) rfl ?_
      exact ⟨[], _, _, _, len, xs, rfl, .inr ⟨HNo.out, rfl, rfl⟩, HD5.out, HF.out.2.2, HF.out.1⟩
    · by_cases hm3 : 3 < mode
      · have HNo : Hid (¬ (okT m xs = true ∧ 1 ≤ mode ∧ mode ≤ 3)) := fun h => by omega
        have hmd : decide (mode < 1) = false := by simp; omega
        have hmd3 : decide (3 < mode) = true := by simp; omega
        clear hok
        obtain ⟨w4, hw4⟩ : ∃ w4, w3.alloc (.cells #[] 5) = w4 := ⟨_, rfl⟩
        have hb34 : Below w3.heap.size w3 w4 := by rw [← hw4]; exact (Below.refl _ _).alloc (Nat.le_refl _) _
        have HB4 : Hid (Below w2.heap.size w2 w4) := HB3.out.trans (hb34.mono HB3.out.size)
        have HO4 : Hid (Owns w4 w3.heap.size (some ⟨w3.heap.size, 0, none⟩) 0 0 []) := by
          refine ⟨?_, by simp⟩
          rw [← hw4]
          exact ⟨rfl, .inr ⟨w3.heap.size, 0, #[], rfl, Nat.le_refl _, heap_alloc_new w3 _, Nat.le_refl _, by decide, rfl, rfl⟩⟩
        obtain ⟨t0, t1, _, _⟩ := (HQ.out _ HB4.out).1.cells
        clear hb34 d0 d1 d2 d3
        have HZ3 : Hid (w2.heap.size ≤ w3.heap.size) := HB3.out.size
        go_wp2_with fail
        clear hw4
        refine (implCopy_any m a len ca xs _ (HQ.out _ HB4.out).2.2.1 (by omega)).mono ?_
        rintro e w5 ⟨v5, rfl, ho5, hb5⟩
        obtain ⟨a5, c5, rfl⟩ := ho5.shape
        have hb5' : Below w2.heap.size w2 w5 := HB4.out.trans (hb5.mono HB4.out.size)
        have HO5 : Hid (Owns w5 w3.heap.size (some ⟨w3.heap.size, 0, none⟩) 0 0 []) := HO4.out.below hb5
        obtain ⟨g0, g1, g2, g3⟩ := (HQ.out _ hb5').2.1.cells
        have HF : Hid _ := HC.out _ _ _ _ m _ hb5' HB4.out.size ho5
        have HD5 : Hid _ := HD.out w5 w3.heap.size _ _ _ _ (.int .i64 m) (.slice a5 len c5) HZ3.out HO5.out
        clear ho5 hb5 hb5' t0 t1
        go_wp2_with fail
        obtain ⟨r0, r1⟩ := ret_tab HF.out.2.1
        refine bodyPost_ret (v := .tuple #[.slice (some ⟨w3.heap.size, 0, none⟩) 0 0, .agg #[.int .i64 m, .slice a5 len c5]]) (by simp [results, Tryz.f56, go_sem, r0, r1]) rfl ?_
        exact ⟨[], _, _, _, len, xs, rfl, .inr ⟨HNo.out, rfl, rfl⟩, HD5.out, HF.out.2.2, HF.out.1⟩
      · have HYes : Hid (okT m xs = true ∧ 1 ≤ mode ∧ mode ≤ 3) := ⟨hok, by omega, by omega⟩
        have hmd : decide (mode < 1) = false := by simp; omega
        have hmd3 : decide (3 < mode) = false := by simp; omega
        clear hok
        go_wp2_with fail
        refine (implFind_any m a len ca xs x y _ (HQ.out _ HB3.out).2.2.1 (by omega) hf).mono ?_
        rintro e w4 ⟨i, b, rfl, hfa, hb4⟩
        obtain ⟨hi0, hi1⟩ := find_bound hfa
        rw [List.length_append, firstL_len] at hi1
        obtain ⟨I, rfl⟩ := Int.eq_ofNat_of_zero_le hi0
        have HFA : Hid (FindAns (firstL ++ xs) (x, y) (I : Int) b) := hfa
        have HB4 : Hid (Below w2.heap.size w2 w4) := HB3.out.trans (hb4.mono HB3.out.size)
        have hI : I ≤ 16777216 := by omega
        clear hfa hb4 d0 d1 d2 d3 hi0 hi1
        go_wp2_with fail
        refine (formFor_any mode b _).mono ?_
        rintro e w5 ⟨rfl, rfl⟩
        obtain ⟨d0, d1, _, _⟩ := (HQ.out _ HB4.out).1.cells
        obtain ⟨d2, d3, _, _⟩ := (HQ.out _ HB4.out).2.2.2.2.cells
        obtain ⟨e0, e1, e2, e3⟩ := (HQ.out _ HB4.out).2.1.cells
        have HPF : Hid (∀ W : World, Calls Tryz.prog 74 #[.iface (formT mode b) (.agg #[]), .int .i64 I, .agg #[.string x, .string y]] W fun e w' => ∃ (q : List Int) (a' : Option Addr) (cap' : Nat), FormOf mode b I x y q ∧ e = .returned (.slice a' q.length cap') ∧ Owns w' W.heap.size a' q.length cap' q ∧ Below W.heap.size W w') := fun W => putForm_any mode b I x y W (by omega) (by omega) hI (by omega) (by omega)
        have HBH : Hid (∀ W : World, Below w2.heap.size w2 W → Calls Tryz.prog 75 #[.agg #[.int .i64 m, .slice a len ca], .iface (formT mode b) (.agg #[]), .agg #[.string x, .string y]] W fun e w' => ∃ v n ys, e = .returned (.agg #[.int .i64 m, v]) ∧ ((mode = 1 ∧ b = false ∧ AddAns m xs (x, y) ys) ∨ (¬ (mode = 1 ∧ b = false) ∧ ys = xs)) ∧ OwnF w' W.heap.size v n ys ∧ Below W.heap.size W w') := by
          intro W hW
          refine (behind_any (formT mode b) (formT_four mode b) m a len ca xs x y W (HQ.out _ hW).2.2.1 hf hl).mono ?_
          rintro e w' ⟨v, n, ys, he, hh, r⟩
          refine ⟨v, n, ys, he, ?_, r⟩
          rcases hh with ⟨h1, h2⟩ | ⟨h1, h2⟩
          · have := (formT_add mode b).1 h1
            exact .inl ⟨this.1, this.2, h2⟩
          · exact .inr ⟨fun h => h1 ((formT_add mode b).2 h), h2⟩
        generalize formT mode b = T at *
        go_wp2_with fail
        go_region_with (first
          | (go_at_call 74; refine (HPF.out _).mono ?_; rintro e y1 ⟨q, a1, c1, hq, rfl, ho1, hb1⟩; have hb1' : Below w2.heap.size w2 y1 := HB4.out.drew.trans (hb1.mono HB4.out.size); obtain ⟨s0, s1, _, _⟩ := (HQ.out _ hb1').1.cells; obtain ⟨s2, s3, _, _⟩ := (HQ.out _ hb1').2.2.2.2.cells; obtain ⟨s4, s5, s6, s7⟩ := (HQ.out _ hb1').2.1.cells)
          | (go_at_call 75; refine (HBH.out _ hb1').mono ?_; rintro e y2 ⟨v2, n2, ys, rfl, hans, ho2, hb2⟩; obtain ⟨a2, c2, rfl⟩ := ho2.shape; have hb2' : Below w2.heap.size w2 y2 := hb1'.trans (hb2.mono hb1'.size); obtain ⟨t0, t1, _, _⟩ := (HQ.out _ hb2').1.cells; obtain ⟨t2, t3, _, _⟩ := (HQ.out _ hb2').2.2.2.2.cells; obtain ⟨t4, t5, t6, t7⟩ := (HQ.out _ hb2').2.1.cells))
        all_goals
          have HF : Hid _ := HC.out _ _ _ _ m _ hb2' hb1'.size ho2
          have HD5 : Hid _ := HD.out y2 w5.heap.size _ _ _ _ (.int .i64 m) (.slice a2 n2 c2) HB4.out.size (ho1.below hb2)
          have HAns : Hid ((mode = 1 ∧ b = false ∧ AddAns m xs (x, y) ys) ∨ (¬ (mode = 1 ∧ b = false) ∧ ys = xs)) := hans
          have HFo : Hid (FormOf mode b I x y q) := hq
          clear hans hq ho1 ho2 hb1 hb2 hb1' hb2' s0 s1 s2 s3 s4 s5 s6 s7 t0 t1 t2 t3 d0 d1 d2 d3 e0 e1 e2 e3
          go_wp2_with fail
          obtain ⟨r0, r1⟩ := ret_tab HF.out.2.1
          refine bodyPost_ret (v := .tuple #[.slice a1 q.length c1, .agg #[.int .i64 m, .slice a2 n2 c2]]) (by simp [results, Tryz.f56, go_sem, r0, r1]) rfl ?_
          exact ⟨q, _, _, _, n2, ys, rfl, .inl ⟨HYes.out, I, b, HFA.out, HFo.out, HAns.out⟩, HD5.out, HF.out.2.2, HF.out.1⟩

end Go.Proofs.YtbaijmkghgnleaaGreatDoor
