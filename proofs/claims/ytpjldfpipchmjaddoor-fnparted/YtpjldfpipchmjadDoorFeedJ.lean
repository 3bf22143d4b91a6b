/- What the program's Feed answers where the frame is a part; nothing that was there is written. -/
import Derived.Test.YtpjldfpipchmjadDoorFeedA
namespace Go.Proofs.YtpjldfpipchmjadDoor
open Go.RowKit
set_option linter.unusedVariables false

set_option maxRecDepth 10000 in
set_option maxHeartbeats 3200000 in
theorem feed_done (s : Int) (en : Bool) (a : Option Addr) (n cap : Nat) (zs : List Int) (k f fs : Int) (b : Option Addr) (m capb : Nat) (w : World) (hg : Seg w a n zs) (hl : n ≤ 1048576) (he : ErrT w) (s' : Int) (en' : Bool) (L : Nat) (ws : List Int) (HG : ∀ X, Below w.heap.size w X → Calls Tryd.prog 34 #[.agg #[.int .i64 s, .bool en, .slice a n cap], .agg #[.int .i64 k, .int .i64 f, .int .i64 fs, .slice b m capb]] X fun e w' => ∃ a' cap', e = .returned (.tuple #[.agg #[.int .i64 s', .bool en', .slice a' L cap'], .nilIface]) ∧ Owns w' X.heap.size a' L cap' ws ∧ Below X.heap.size X w') (hp : ((k == 1) || (k == 9)) = true) (hfl : (bits .and .i64 f 4 != 0) = true) :
    Calls Tryd.prog 12 #[.agg #[.int .i64 s, .bool en, .slice a n cap], .agg #[.int .i64 k, .int .i64 f, .int .i64 fs, .slice b m capb]] w fun e w' => ∃ c2 a2, e = .returned (.tuple #[.agg #[.int .i64 0, .bool false, .slice none 0 0], .slice a2 L c2, .int .i64 1]) ∧ Owns w' w.heap.size a2 L c2 ws ∧ Below w.heap.size w w' := by
  have HGr := (show Hid _ from HG)
  have HP : Hid (((k == 1) || (k == 9)) = true) := hp
  clear HG hp
  have HSg : Hid (Seg w a n zs) := hg
  obtain ⟨W3, hW3⟩ : ∃ W3, ((w.alloc (.cells #[.int .i64 s, .bool en, .slice a n cap] 30)).alloc (.cells #[.int .i64 k, .int .i64 f, .int .i64 fs, .slice b m capb] 33)).alloc (.cells #[.int .i64 0, .bool false, .slice none 0 0] 30) = W3 := ⟨_, rfl⟩
  have q1 : Box3 W3 w.heap.size 30 (.int .i64 s) (.bool en) (.slice a n cap) := by rw [← hW3]; exact ((Box3.new _ _ _ _ _).alloc _).alloc _
  have q2 : Box4 W3 (w.heap.size + 1) 33 (.int .i64 k) (.int .i64 f) (.int .i64 fs) (.slice b m capb) := by
    rw [← hW3]
    have := (Box4.new (w.alloc (.cells #[.int .i64 s, .bool en, .slice a n cap] 30)) 33 (.int .i64 k) (.int .i64 f) (.int .i64 fs) (.slice b m capb)).alloc (.cells #[.int .i64 0, .bool false, .slice none 0 0] 30)
    rwa [World.size_alloc] at this
  have q3 : Box3 W3 (w.heap.size + 1 + 1) 30 (.int .i64 0) (.bool false) (.slice none 0 0) := by
    rw [← hW3]
    have := Box3.new ((w.alloc (.cells #[.int .i64 s, .bool en, .slice a n cap] 30)).alloc (.cells #[.int .i64 k, .int .i64 f, .int .i64 fs, .slice b m capb] 33)) 30 (.int .i64 0) (.bool false) (.slice none 0 0)
    rwa [World.size_alloc, World.size_alloc] at this
  have HB3 : Hid (Below w.heap.size w W3) := by show Below _ _ _; rw [← hW3]; exact (((Below.refl _ _).alloc (Nat.le_refl _) _).alloc (by simp) _).alloc (by simp; omega) _
  have HZ3 : Hid (W3.heap.size = w.heap.size + 3) := by show _ = _; rw [← hW3]; simp
  have HQ : Hid (∀ W, Below W3.heap.size W3 W → Box3 W w.heap.size 30 (.int .i64 s) (.bool en) (.slice a n cap) ∧ Box4 W (w.heap.size + 1) 33 (.int .i64 k) (.int .i64 f) (.int .i64 fs) (.slice b m capb) ∧ Box3 W (w.heap.size + 1 + 1) 30 (.int .i64 0) (.bool false) (.slice none 0 0) ∧ Below w.heap.size w W ∧ Seg W a n zs) := fun W h => by
    have hw : Below w.heap.size w W := HB3.out.trans (h.mono HB3.out.size)
    exact ⟨q1.stays h, q2.stays h, q3.stays h, hw, HSg.out.below hw⟩
  have HE3 : Hid (((w.alloc (.cells #[.int .i64 s, .bool en, .slice a n cap] 30)).alloc (.cells #[.int .i64 k, .int .i64 f, .int .i64 fs, .slice b m capb] 33)).alloc (.cells #[.int .i64 0, .bool false, .slice none 0 0] 30) = W3) := hW3
  have HT : Hid (∀ W, Below w.heap.size w W → ErrT W) := fun W h => errT_below he h
  clear hW3 q1 q2 q3 hg he
  go_enter Tryd.func12, Tryd.ntmps12
  go_upto_region 1 with fail
  rw [HE3.out]
  obtain ⟨c0, c1, c2⟩ := (HQ.out _ (Below.refl _ _)).1.cells
  obtain ⟨d0, d1, d2, d3⟩ := (HQ.out _ (Below.refl _ _)).2.1.cells
  go_wp2_with fail
  refine (HGr.out W3 HB3.out).mono ?_
  rintro e x1 ⟨a5, k5, rfl, og5, hb1⟩
  have HX1 : Hid (Below W3.heap.size W3 x1) := hb1
  have HO1 : Hid (Owns x1 W3.heap.size a5 L k5 ws) := og5
  clear hb1 og5 c0 c1 c2 d0 d1 d2 d3 HE3 HGr
  go_upto_region 3 with fail
  obtain ⟨V, hV⟩ : ∃ V, (x1.alloc (.cells #[.int .i64 s', .bool en', .slice a5 L k5] 30)).alloc (.cells #[.int .i64 0] 63) = V := ⟨_, rfl⟩
  have hz := HZ3.out
  have hz1 := HX1.out.size
  have hbV : Below x1.heap.size x1 V := by rw [← hV]; exact ((Below.refl _ _).alloc (Nat.le_refl _) _).alloc (by simp) _
  have HXV : Hid (Below W3.heap.size W3 V) := HX1.out.trans (hbV.mono HX1.out.size)
  have HOV : Hid (Owns V W3.heap.size a5 L k5 ws) := HO1.out.below hbV
  have HNV : Hid (Box3 V x1.heap.size 30 (.int .i64 s') (.bool en') (.slice a5 L k5)) := by
    show Box3 _ _ _ _ _ _
    rw [← hV]
    exact (Box3.new _ _ _ _ _).alloc _
  rw [hV]
  clear hV hbV HO1
  generalize x1.heap.size = nb at *
  go_wp2_with fail
  refine (as_nil _ _).mono ?_
  rintro e x2 ⟨rfl, rfl⟩
  obtain ⟨d0, d1, d2, d3⟩ := (HQ.out _ HXV.out).2.1.cells
  go_wp2_with fail
  refine (isPart_any k f fs b m capb _).mono ?_
  rintro e x3 ⟨rfl, hb3⟩
  have HX3 : Hid (Below W3.heap.size W3 x3) := HXV.out.trans (hb3.mono HXV.out.size)
  have HO3 : Hid (Owns x3 W3.heap.size a5 L k5 ws) := HOV.out.below hb3
  have HN3 : Hid (Box3 x3 nb 30 (.int .i64 s') (.bool en') (.slice a5 L k5)) := HNV.out.stays hb3
  clear hb3 d0 d1 d2 d3 HXV HOV HNV HT
  obtain ⟨d0, d1, d2, d3⟩ := (HQ.out _ HX3.out).2.1.cells
  obtain ⟨e0, e1, e2⟩ := HN3.out.cells
  obtain ⟨g0, g1, g2⟩ := (HQ.out _ HX3.out).2.2.1.cells
  have f0 := (HQ.out _ HX3.out).2.2.1.frozen 0
  have f1 := (HQ.out _ HX3.out).2.2.1.frozen 1
  have f2 := (HQ.out _ HX3.out).2.2.1.frozen 2
  have HBx : Hid (Below w.heap.size w x3) := (HQ.out _ HX3.out).2.2.2.1
  have HNb : Hid (w.heap.size + 3 ≤ nb) := by show _ ≤ _; omega
  rw [HP.out]
  go_upto_region 6 with fail
  go_region_held3 (fun W => W.cell? ⟨nb, 2, none⟩ = some (.slice a5 L k5)) (first | assumption | (refine cell_kept ?_ (cell_kept ?_ (cell_kept ?_ (by assumption))) <;> (have := HNb.out; omega))) (fail)
  have hnb := HNb.out
  have hn : a5.map (·.block) ≠ some (w.heap.size + 1 + 1) := fun e => by have h3 := (HO3.out.lt _ e).1; have h4 := HZ3.out; omega
  have HF := (show Hid _ from (owns_set (owns_set (owns_set (k := 0) (v := .int .i64 0) HO3.out hn) (k := 1) (v := .bool false) hn) (k := 2) (v := .slice none 0 0) hn).low (show w.heap.size ≤ W3.heap.size by have h4 := HZ3.out; omega))
  have HF2 := (show Hid _ from ((HBx.out.setCell (p := ⟨w.heap.size + 1 + 1, 0, none⟩) (by show w.heap.size ≤ w.heap.size + 1 + 1; omega) (.int .i64 0)).setCell (p := ⟨w.heap.size + 1 + 1, 1, none⟩) (by show w.heap.size ≤ w.heap.size + 1 + 1; omega) (.bool false)).setCell (p := ⟨w.heap.size + 1 + 1, 2, none⟩) (by show w.heap.size ≤ w.heap.size + 1 + 1; omega) (.slice none 0 0))
  go_wp2_with fail
  refine bodyPost_ret (v := .tuple #[.agg #[.int .i64 0, .bool false, .slice none 0 0], .slice a5 L k5, .int .i64 1]) (by simp [results, Tryd.f12, go_sem, g0, g1, g2]) rfl ?_
  exact ⟨_, _, rfl, HF.out, HF2.out.drew⟩

set_option maxRecDepth 10000 in
set_option maxHeartbeats 3200000 in
theorem feed_good (s : Int) (en : Bool) (a : Option Addr) (n cap : Nat) (zs : List Int) (k f fs : Int) (b : Option Addr) (m capb : Nat) (w : World) (hg : Seg w a n zs) (hl : n ≤ 1048576) (he : ErrT w) (s' : Int) (en' : Bool) (L : Nat) (ws : List Int) (HG : ∀ X, Below w.heap.size w X → Calls Tryd.prog 34 #[.agg #[.int .i64 s, .bool en, .slice a n cap], .agg #[.int .i64 k, .int .i64 f, .int .i64 fs, .slice b m capb]] X fun e w' => ∃ a' cap', e = .returned (.tuple #[.agg #[.int .i64 s', .bool en', .slice a' L cap'], .nilIface]) ∧ Owns w' X.heap.size a' L cap' ws ∧ Below X.heap.size X w') (hp : (((k == 1) || (k == 9)) && (bits .and .i64 f 4 != 0)) = false) :
    Calls Tryd.prog 12 #[.agg #[.int .i64 s, .bool en, .slice a n cap], .agg #[.int .i64 k, .int .i64 f, .int .i64 fs, .slice b m capb]] w fun e w' => ∃ a' c' a2 c2, e = .returned (.tuple #[.agg #[.int .i64 s', .bool en', .slice a' L c'], .slice a2 0 c2, .int .i64 0]) ∧ Owns w' w.heap.size a' L c' ws ∧ Owns w' w.heap.size a2 0 c2 [] ∧ Parts2 a' a2 ∧ Below w.heap.size w w' := by
  have HGr := (show Hid _ from HG)
  obtain ⟨pb, hpb⟩ : ∃ pb, ((k == 1) || (k == 9)) = pb := ⟨_, rfl⟩
  have HP : Hid (((k == 1) || (k == 9)) = pb) := hpb
  rw [hpb] at hp
  clear HG hpb
  have HSg : Hid (Seg w a n zs) := hg
  obtain ⟨W3, hW3⟩ : ∃ W3, ((w.alloc (.cells #[.int .i64 s, .bool en, .slice a n cap] 30)).alloc (.cells #[.int .i64 k, .int .i64 f, .int .i64 fs, .slice b m capb] 33)).alloc (.cells #[.int .i64 0, .bool false, .slice none 0 0] 30) = W3 := ⟨_, rfl⟩
  have q1 : Box3 W3 w.heap.size 30 (.int .i64 s) (.bool en) (.slice a n cap) := by rw [← hW3]; exact ((Box3.new _ _ _ _ _).alloc _).alloc _
  have q2 : Box4 W3 (w.heap.size + 1) 33 (.int .i64 k) (.int .i64 f) (.int .i64 fs) (.slice b m capb) := by
    rw [← hW3]
    have := (Box4.new (w.alloc (.cells #[.int .i64 s, .bool en, .slice a n cap] 30)) 33 (.int .i64 k) (.int .i64 f) (.int .i64 fs) (.slice b m capb)).alloc (.cells #[.int .i64 0, .bool false, .slice none 0 0] 30)
    rwa [World.size_alloc] at this
  have q3 : Box3 W3 (w.heap.size + 1 + 1) 30 (.int .i64 0) (.bool false) (.slice none 0 0) := by
    rw [← hW3]
    have := Box3.new ((w.alloc (.cells #[.int .i64 s, .bool en, .slice a n cap] 30)).alloc (.cells #[.int .i64 k, .int .i64 f, .int .i64 fs, .slice b m capb] 33)) 30 (.int .i64 0) (.bool false) (.slice none 0 0)
    rwa [World.size_alloc, World.size_alloc] at this
  have HB3 : Hid (Below w.heap.size w W3) := by show Below _ _ _; rw [← hW3]; exact (((Below.refl _ _).alloc (Nat.le_refl _) _).alloc (by simp) _).alloc (by simp; omega) _
  have HZ3 : Hid (W3.heap.size = w.heap.size + 3) := by show _ = _; rw [← hW3]; simp
  have HQ : Hid (∀ W, Below W3.heap.size W3 W → Box3 W w.heap.size 30 (.int .i64 s) (.bool en) (.slice a n cap) ∧ Box4 W (w.heap.size + 1) 33 (.int .i64 k) (.int .i64 f) (.int .i64 fs) (.slice b m capb) ∧ Box3 W (w.heap.size + 1 + 1) 30 (.int .i64 0) (.bool false) (.slice none 0 0) ∧ Below w.heap.size w W ∧ Seg W a n zs) := fun W h => by
    have hw : Below w.heap.size w W := HB3.out.trans (h.mono HB3.out.size)
    exact ⟨q1.stays h, q2.stays h, q3.stays h, hw, HSg.out.below hw⟩
  have HE3 : Hid (((w.alloc (.cells #[.int .i64 s, .bool en, .slice a n cap] 30)).alloc (.cells #[.int .i64 k, .int .i64 f, .int .i64 fs, .slice b m capb] 33)).alloc (.cells #[.int .i64 0, .bool false, .slice none 0 0] 30) = W3) := hW3
  have HT : Hid (∀ W, Below w.heap.size w W → ErrT W) := fun W h => errT_below he h
  clear hW3 q1 q2 q3 hg he
  go_enter Tryd.func12, Tryd.ntmps12
  go_upto_region 1 with fail
  rw [HE3.out]
  obtain ⟨c0, c1, c2⟩ := (HQ.out _ (Below.refl _ _)).1.cells
  obtain ⟨d0, d1, d2, d3⟩ := (HQ.out _ (Below.refl _ _)).2.1.cells
  go_wp2_with fail
  refine (HGr.out W3 HB3.out).mono ?_
  rintro e x1 ⟨a5, k5, rfl, og5, hb1⟩
  have HX1 : Hid (Below W3.heap.size W3 x1) := hb1
  have HO1 : Hid (Owns x1 W3.heap.size a5 L k5 ws) := og5
  clear hb1 og5 c0 c1 c2 d0 d1 d2 d3 HE3 HGr
  go_upto_region 3 with fail
  obtain ⟨V, hV⟩ : ∃ V, (x1.alloc (.cells #[.int .i64 s', .bool en', .slice a5 L k5] 30)).alloc (.cells #[.int .i64 0] 63) = V := ⟨_, rfl⟩
  have hz := HZ3.out
  have hz1 := HX1.out.size
  have hbV : Below x1.heap.size x1 V := by rw [← hV]; exact ((Below.refl _ _).alloc (Nat.le_refl _) _).alloc (by simp) _
  have HXV : Hid (Below W3.heap.size W3 V) := HX1.out.trans (hbV.mono HX1.out.size)
  have HOV : Hid (Owns V W3.heap.size a5 L k5 ws) := HO1.out.below hbV
  have HNV : Hid (Box3 V x1.heap.size 30 (.int .i64 s') (.bool en') (.slice a5 L k5)) := by
    show Box3 _ _ _ _ _ _
    rw [← hV]
    exact (Box3.new _ _ _ _ _).alloc _
  rw [hV]
  clear hV hbV HO1
  generalize x1.heap.size = nb at *
  go_wp2_with fail
  refine (as_nil _ _).mono ?_
  rintro e x2 ⟨rfl, rfl⟩
  obtain ⟨d0, d1, d2, d3⟩ := (HQ.out _ HXV.out).2.1.cells
  go_wp2_with fail
  refine (isPart_any k f fs b m capb _).mono ?_
  rintro e x3 ⟨rfl, hb3⟩
  have HX3 : Hid (Below W3.heap.size W3 x3) := HXV.out.trans (hb3.mono HXV.out.size)
  have HO3 : Hid (Owns x3 W3.heap.size a5 L k5 ws) := HOV.out.below hb3
  have HN3 : Hid (Box3 x3 nb 30 (.int .i64 s') (.bool en') (.slice a5 L k5)) := HNV.out.stays hb3
  clear hb3 d0 d1 d2 d3 HXV HOV HNV HT
  obtain ⟨d0, d1, d2, d3⟩ := (HQ.out _ HX3.out).2.1.cells
  obtain ⟨e0, e1, e2⟩ := HN3.out.cells
  obtain ⟨g0, g1, g2⟩ := (HQ.out _ HX3.out).2.2.1.cells
  have f0 := (HQ.out _ HX3.out).2.2.1.frozen 0
  have f1 := (HQ.out _ HX3.out).2.2.1.frozen 1
  have f2 := (HQ.out _ HX3.out).2.2.1.frozen 2
  have HBx : Hid (Below w.heap.size w x3) := (HQ.out _ HX3.out).2.2.2.1
  have HNb : Hid (w.heap.size + 3 ≤ nb) := by show _ ≤ _; omega
  rw [HP.out]
  have HF : Hid (Owns ((((x3.alloc (.cells #[] 5)).setCell ⟨w.heap.size + 1 + 1, 0, none⟩ (.int .i64 s')).setCell ⟨w.heap.size + 1 + 1, 1, none⟩ (.bool en')).setCell ⟨w.heap.size + 1 + 1, 2, none⟩ (.slice a5 L k5)) w.heap.size a5 L k5 ws ∧ Owns ((((x3.alloc (.cells #[] 5)).setCell ⟨w.heap.size + 1 + 1, 0, none⟩ (.int .i64 s')).setCell ⟨w.heap.size + 1 + 1, 1, none⟩ (.bool en')).setCell ⟨w.heap.size + 1 + 1, 2, none⟩ (.slice a5 L k5)) w.heap.size (some ⟨x3.heap.size, 0, none⟩) 0 0 [] ∧ Parts2 a5 (some ⟨x3.heap.size, 0, none⟩) ∧ Below w.heap.size w ((((x3.alloc (.cells #[] 5)).setCell ⟨w.heap.size + 1 + 1, 0, none⟩ (.int .i64 s')).setCell ⟨w.heap.size + 1 + 1, 1, none⟩ (.bool en')).setCell ⟨w.heap.size + 1 + 1, 2, none⟩ (.slice a5 L k5))) := by
    have hnb := HNb.out
    have hn : a5.map (·.block) ≠ some (w.heap.size + 1 + 1) := fun e => by have h3 := (HO3.out.lt _ e).1; omega
    have h0 : Owns (x3.alloc (.cells #[] 5)) x3.heap.size (some ⟨x3.heap.size, 0, none⟩) 0 0 [] := ⟨World.ownsRow_lit x3 #[] 0 (Nat.le_refl _) (Nat.zero_le _) rfl, by simp⟩
    have hx := HX3.out.size
    have hn2 : (some (⟨x3.heap.size, 0, none⟩ : Addr)).map (·.block) ≠ some (w.heap.size + 1 + 1) := fun e => by
      injection e with e
      have e' : x3.heap.size = w.heap.size + 1 + 1 := e
      omega
    have hbA := HBx.out.alloc (o := .cells #[] 5) HBx.out.size
    refine ⟨(owns_set (owns_set (owns_set (HO3.out.below ((Below.refl _ _).alloc (Nat.le_refl _) _)) hn) hn) hn).low (by omega), (owns_set (owns_set (owns_set h0 hn2) hn2) hn2).low (by omega), fun q hq e => ?_, ((hbA.setCell (p := ⟨w.heap.size + 1 + 1, 0, none⟩) (by show w.heap.size ≤ w.heap.size + 1 + 1; omega) _).setCell (p := ⟨w.heap.size + 1 + 1, 1, none⟩) (by show w.heap.size ≤ w.heap.size + 1 + 1; omega) _).setCell (p := ⟨w.heap.size + 1 + 1, 2, none⟩) (by show w.heap.size ≤ w.heap.size + 1 + 1; omega) _⟩
    have h3 := (HO3.out.lt q hq).2
    have e' : x3.heap.size = q := by injection e
    omega
  obtain ⟨j0, j1, j2⟩ := ((HQ.out _ HX3.out).2.2.1.alloc (.cells #[] 5)).cells
  have l0 := ((HQ.out _ HX3.out).2.2.1.alloc (.cells #[] 5)).frozen 0
  have l1 := ((HQ.out _ HX3.out).2.2.1.alloc (.cells #[] 5)).frozen 1
  have l2 := ((HQ.out _ HX3.out).2.2.1.alloc (.cells #[] 5)).frozen 2
  cases pb
  · go_wp2_with fail
    refine bodyPost_ret (v := .tuple #[.agg #[.int .i64 s', .bool en', .slice a5 L k5], .slice (some ⟨x3.heap.size, 0, none⟩) 0 0, .int .i64 0]) (by simp [results, Tryd.f12, go_sem, j0, j1, j2]) rfl ?_
    exact ⟨_, _, _, _, rfl, HF.out.1, HF.out.2.1, HF.out.2.2.1, HF.out.2.2.2⟩
  · have hfl : (bits .and .i64 f 4 != 0) = false := by simpa using hp
    go_wp2_with fail
    refine bodyPost_ret (v := .tuple #[.agg #[.int .i64 s', .bool en', .slice a5 L k5], .slice (some ⟨x3.heap.size, 0, none⟩) 0 0, .int .i64 0]) (by simp [results, Tryd.f12, go_sem, j0, j1, j2]) rfl ?_
    exact ⟨_, _, _, _, rfl, HF.out.1, HF.out.2.1, HF.out.2.2.1, HF.out.2.2.2⟩

end Go.Proofs.YtpjldfpipchmjadDoor
