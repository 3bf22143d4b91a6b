/- What a frame makes of what is gathered: the program's own function; nothing that was there is written. -/
import Derived.Test.YtpjldfpipchmjadDoorFeedNum
import Derived.Test.YtpjldfpipchmjadDoorGaCopy
import Derived.Test.YtpjldfpipchmjadDoorUnp
import Derived.Test.YtpjldfpipchmjadDoorSegSrc
import Derived.Deep.CutBlock
namespace Go.Proofs.YtpjldfpipchmjadDoor
open Go.RowKit
set_option linter.unusedVariables false

set_option maxRecDepth 10000 in
set_option maxHeartbeats 1600000 in
theorem grown_order (s : Int) (en : Bool) (a : Option Addr) (n cap : Nat) (zs : List Int) (k f fs : Int) (b : Option Addr) (m capb : Nat) (ys : List Int) (w : World) (hg : Seg w a n zs) (hf : Seg w b m ys) (hcap : m ≤ capb) (hl : n ≤ 1048576) (hm : m ≤ 1048576) (ho : ordB s en n k f fs m = false) :
    Calls Tryd.prog 34 #[.agg #[.int .i64 s, .bool en, .slice a n cap], .agg #[.int .i64 k, .int .i64 f, .int .i64 fs, .slice b m capb]] w fun e w' => e = .returned (.tuple #[.agg #[.int .i64 0, .bool false, .slice none 0 0], .iface 63 (.agg #[.int .i64 2])]) ∧ Below w.heap.size w w' := by
  have HO : Hid (ordB s en n k f fs m = false) := ho
  clear ho
  obtain ⟨i0, hi, hz0, hz1, hz2⟩ := info_parts Tryd.info5
  have HSg : Hid (Seg w a n zs) := hg
  have HSf : Hid (Seg w b m ys) := hf
  have HCp : Hid (m ≤ capb) := hcap
  obtain ⟨W3, hW3⟩ : ∃ W3, ((w.alloc (.cells #[.int .i64 s, .bool en, .slice a n cap] 30)).alloc (.cells #[.int .i64 k, .int .i64 f, .int .i64 fs, .slice b m capb] 33)).alloc (.cells #[.int .i64 0, .bool false, .slice none 0 0] 30) = W3 := ⟨_, rfl⟩
  have q1 : Box3 W3 w.heap.size 30 (.int .i64 s) (.bool en) (.slice a n cap) := by rw [← hW3]; exact ((Box3.new _ _ _ _ _).alloc _).alloc _
  have q2 : Box4 W3 (w.heap.size + 1) 33 (.int .i64 k) (.int .i64 f) (.int .i64 fs) (.slice b m capb) := by
    rw [← hW3]
    have := (Box4.new (w.alloc (.cells #[.int .i64 s, .bool en, .slice a n cap] 30)) 33 (.int .i64 k) (.int .i64 f) (.int .i64 fs) (.slice b m capb)).alloc (.cells #[.int .i64 0, .bool false, .slice none 0 0] 30)
    rwa [World.size_alloc] at this
  have q3 : Box3 W3 (w.heap.size + 1 + 1) 30 (.int .i64 0) (.bool false) (.slice none 0 0) := by
    rw [← hW3]
    have := Box3.new ((w.alloc (.cells #[.int .i64 s, .bool en, .slice a n cap] 30)).alloc (.cells #[.int .i64 k, .int .i64 f, .int .i64 fs, .slice b m capb] 33)) 30 (.int .i64 0) (.bool false) (.slice none 0 0)
    rwa [World.size_alloc, World.size_alloc] at this
  have HB3 : Hid (Below w.heap.size w W3) := by show Below _ _ _; rw [← hW3]; exact (((Below.refl _ _).alloc (Nat.le_refl _) _).alloc (by simp) _).alloc (by simp; omega) _
  have HZ3 : Hid (W3.heap.size = w.heap.size + 3) := by show _ = _; rw [← hW3]; simp
  have HQ : Hid (∀ W, Below W3.heap.size W3 W → Box3 W w.heap.size 30 (.int .i64 s) (.bool en) (.slice a n cap) ∧ Box4 W (w.heap.size + 1) 33 (.int .i64 k) (.int .i64 f) (.int .i64 fs) (.slice b m capb) ∧ Box3 W (w.heap.size + 1 + 1) 30 (.int .i64 0) (.bool false) (.slice none 0 0) ∧ Below w.heap.size w W ∧ Seg W a n zs ∧ Seg W b m ys) := fun W h => by
    have hw : Below w.heap.size w W := HB3.out.trans (h.mono HB3.out.size)
    exact ⟨q1.stays h, q2.stays h, q3.stays h, hw, HSg.out.below hw, HSf.out.below hw⟩
  have HE3 : Hid (((w.alloc (.cells #[.int .i64 s, .bool en, .slice a n cap] 30)).alloc (.cells #[.int .i64 k, .int .i64 f, .int .i64 fs, .slice b m capb] 33)).alloc (.cells #[.int .i64 0, .bool false, .slice none 0 0] 30) = W3) := hW3
  clear hW3 q1 q2 q3 hg hf hcap
  go_enter Tryd.func34, Tryd.ntmps34
  go_upto_region 1 with fail
  rw [HE3.out]
  obtain ⟨c0, c1, c2⟩ := (HQ.out _ (Below.refl _ _)).1.cells
  obtain ⟨d0, d1, d2, d3⟩ := (HQ.out _ (Below.refl _ _)).2.1.cells
  go_wp2_with fail
  refine (inOrder_any s en a n cap k f fs b m capb _).mono ?_
  rintro e x1 ⟨rfl, hb1⟩
  rw [HO.out]
  have HX1 : Hid (Below W3.heap.size W3 x1) := hb1
  clear hb1 c0 c1 c2 d0 d1 d2 d3 HE3
  obtain ⟨c0, c1, c2⟩ := (HQ.out _ HX1.out).1.cells
  obtain ⟨g0, g1, g2⟩ := (HQ.out _ HX1.out).2.2.1.cells
  have f0 := (HQ.out _ HX1.out).2.2.1.frozen 0
  have f1 := (HQ.out _ HX1.out).2.2.1.frozen 1
  have f2 := (HQ.out _ HX1.out).2.2.1.frozen 2
  have HBx : Hid (Below w.heap.size w x1) := (HQ.out _ HX1.out).2.2.2.1
  go_wp2_with fail
  refine bodyPost_ret (v := .tuple #[.agg #[.int .i64 0, .bool false, .slice none 0 0], .iface 63 (.agg #[.int .i64 2])]) (by simp [results, Tryd.f34, go_sem, g0, g1, g2]) rfl ?_
  exact ⟨rfl, ((HBx.out.setCell (p := ⟨w.heap.size + 1 + 1, 0, none⟩) (by show w.heap.size ≤ w.heap.size + 1 + 1; omega) _).setCell (p := ⟨w.heap.size + 1 + 1, 1, none⟩) (by show w.heap.size ≤ w.heap.size + 1 + 1; omega) _).setCell (p := ⟨w.heap.size + 1 + 1, 2, none⟩) (by show w.heap.size ≤ w.heap.size + 1 + 1; omega) _⟩

set_option maxRecDepth 10000 in
set_option maxHeartbeats 1600000 in
theorem grown_pad (s : Int) (en : Bool) (a : Option Addr) (n cap : Nat) (zs : List Int) (k f fs : Int) (b : Option Addr) (m capb : Nat) (ys : List Int) (w : World) (hg : Seg w a n zs) (hf : Seg w b m ys) (hcap : m ≤ capb) (hl : n ≤ 1048576) (hm : m ≤ 1048576) (ho : ordB s en n k f fs m = true) (hk : k = 1) (hr : unpadR (bits .and .i64 f 8 != 0) ((k == 1) && (bits .and .i64 f 32 != 0)) ys = none) :
    Calls Tryd.prog 34 #[.agg #[.int .i64 s, .bool en, .slice a n cap], .agg #[.int .i64 k, .int .i64 f, .int .i64 fs, .slice b m capb]] w fun e w' => e = .returned (.tuple #[.agg #[.int .i64 0, .bool false, .slice none 0 0], .iface 63 (.agg #[.int .i64 3])]) ∧ Below w.heap.size w w' := by
  have HO : Hid (ordB s en n k f fs m = true) := ho
  have hm1 := (ordB_yes ho).2.2.2
  have hn3 := (ordB_yes ho).2.2.1
  clear ho
  have hk1 : (k == 1) = true := by simp [hk]
  obtain ⟨r, hr'⟩ : ∃ r, unpadR (bits .and .i64 f 8 != 0) ((k == 1) && (bits .and .i64 f 32 != 0)) ys = r := ⟨_, rfl⟩
  have HR : Hid (unpadR (bits .and .i64 f 8 != 0) ((k == 1) && (bits .and .i64 f 32 != 0)) ys = r) := hr'
  have hrn : r = none := by rw [← hr', hr]
  have HRN : Hid (r = none) := hrn
  obtain ⟨ul, hul⟩ : ∃ ul, (r.getD []).length = ul := ⟨_, rfl⟩
  have HUl : Hid ((r.getD []).length = ul) := hul
  clear hr hr' hrn hul hk
  obtain ⟨i0, hi, hz0, hz1, hz2⟩ := info_parts Tryd.info5
  have HSg : Hid (Seg w a n zs) := hg
  have HSf : Hid (Seg w b m ys) := hf
  have HCp : Hid (m ≤ capb) := hcap
  obtain ⟨W3, hW3⟩ : ∃ W3, ((w.alloc (.cells #[.int .i64 s, .bool en, .slice a n cap] 30)).alloc (.cells #[.int .i64 k, .int .i64 f, .int .i64 fs, .slice b m capb] 33)).alloc (.cells #[.int .i64 0, .bool false, .slice none 0 0] 30) = W3 := ⟨_, rfl⟩
  have q1 : Box3 W3 w.heap.size 30 (.int .i64 s) (.bool en) (.slice a n cap) := by rw [← hW3]; exact ((Box3.new _ _ _ _ _).alloc _).alloc _
  have q2 : Box4 W3 (w.heap.size + 1) 33 (.int .i64 k) (.int .i64 f) (.int .i64 fs) (.slice b m capb) := by
    rw [← hW3]
    have := (Box4.new (w.alloc (.cells #[.int .i64 s, .bool en, .slice a n cap] 30)) 33 (.int .i64 k) (.int .i64 f) (.int .i64 fs) (.slice b m capb)).alloc (.cells #[.int .i64 0, .bool false, .slice none 0 0] 30)
    rwa [World.size_alloc] at this
  have q3 : Box3 W3 (w.heap.size + 1 + 1) 30 (.int .i64 0) (.bool false) (.slice none 0 0) := by
    rw [← hW3]
    have := Box3.new ((w.alloc (.cells #[.int .i64 s, .bool en, .slice a n cap] 30)).alloc (.cells #[.int .i64 k, .int .i64 f, .int .i64 fs, .slice b m capb] 33)) 30 (.int .i64 0) (.bool false) (.slice none 0 0)
    rwa [World.size_alloc, World.size_alloc] at this
  have HB3 : Hid (Below w.heap.size w W3) := by show Below _ _ _; rw [← hW3]; exact (((Below.refl _ _).alloc (Nat.le_refl _) _).alloc (by simp) _).alloc (by simp; omega) _
  have HZ3 : Hid (W3.heap.size = w.heap.size + 3) := by show _ = _; rw [← hW3]; simp
  have HQ : Hid (∀ W, Below W3.heap.size W3 W → Box3 W w.heap.size 30 (.int .i64 s) (.bool en) (.slice a n cap) ∧ Box4 W (w.heap.size + 1) 33 (.int .i64 k) (.int .i64 f) (.int .i64 fs) (.slice b m capb) ∧ Box3 W (w.heap.size + 1 + 1) 30 (.int .i64 0) (.bool false) (.slice none 0 0) ∧ Below w.heap.size w W ∧ Seg W a n zs ∧ Seg W b m ys) := fun W h => by
    have hw : Below w.heap.size w W := HB3.out.trans (h.mono HB3.out.size)
    exact ⟨q1.stays h, q2.stays h, q3.stays h, hw, HSg.out.below hw, HSf.out.below hw⟩
  have HE3 : Hid (((w.alloc (.cells #[.int .i64 s, .bool en, .slice a n cap] 30)).alloc (.cells #[.int .i64 k, .int .i64 f, .int .i64 fs, .slice b m capb] 33)).alloc (.cells #[.int .i64 0, .bool false, .slice none 0 0] 30) = W3) := hW3
  clear hW3 q1 q2 q3 hg hf hcap
  go_enter Tryd.func34, Tryd.ntmps34
  go_upto_region 1 with fail
  rw [HE3.out]
  obtain ⟨c0, c1, c2⟩ := (HQ.out _ (Below.refl _ _)).1.cells
  obtain ⟨d0, d1, d2, d3⟩ := (HQ.out _ (Below.refl _ _)).2.1.cells
  go_wp2_with fail
  refine (inOrder_any s en a n cap k f fs b m capb _).mono ?_
  rintro e x1 ⟨rfl, hb1⟩
  rw [HO.out]
  have HX1 : Hid (Below W3.heap.size W3 x1) := hb1
  clear hb1 c0 c1 c2 d0 d1 d2 d3 HE3
  obtain ⟨c0, c1, c2⟩ := (HQ.out _ HX1.out).1.cells
  go_wp2_with fail
  refine (copyGa_any s en a n cap zs _ (HQ.out _ HX1.out).2.2.2.2.1 hl).mono ?_
  rintro e y1 ⟨a4, k4, rfl, og4, hb2⟩
  have hz := HZ3.out
  have hz1 := HX1.out.size
  have hz2 := hb2.size
  have HY1 : Hid (Below W3.heap.size W3 (y1.alloc (.cells #[.int .i64 s, .bool en, .slice a4 n k4] 30))) := (HX1.out.trans (hb2.mono HX1.out.size)).alloc (by omega) _
  have HN1 : Hid (Box3 (y1.alloc (.cells #[.int .i64 s, .bool en, .slice a4 n k4] 30)) y1.heap.size 30 (.int .i64 s) (.bool en) (.slice a4 n k4)) := Box3.new _ _ _ _ _
  have HG1 : Hid (Owns (y1.alloc (.cells #[.int .i64 s, .bool en, .slice a4 n k4] 30)) x1.heap.size a4 n k4 zs ∧ ∀ q, a4.map (·.block) = some q → q < y1.heap.size) := ⟨og4.below ((Below.refl _ _).alloc (Nat.le_refl _) _), fun q hq => (og4.lt q hq).2⟩
  have HS1 : Hid (x1.heap.size ≤ y1.heap.size ∧ w.heap.size + 3 ≤ x1.heap.size) := ⟨hz2, by omega⟩
  obtain ⟨Y, hY⟩ : ∃ Y, y1.alloc (.cells #[.int .i64 s, .bool en, .slice a4 n k4] 30) = Y := ⟨_, rfl⟩
  have HYs : Hid (Y.heap.size = y1.heap.size + 1) := by show _ = _; rw [← hY]; simp
  have HYe : Hid (y1.alloc (.cells #[.int .i64 s, .bool en, .slice a4 n k4] 30) = Y) := hY
  rw [hY] at HY1 HN1 HG1
  clear hb2 og4 hz hz1 hz2 c0 c1 c2 hY
  go_upto_region 4 with fail
  rw [HYe.out]
  clear HYe
  generalize y1.heap.size = nb at *
  obtain ⟨d0, d1, d2, d3⟩ := (HQ.out _ HY1.out).2.1.cells
  go_wp2_with fail
  refine (implUnp_any k f fs b m capb ys _ (HQ.out _ HY1.out).2.2.2.2.2 HCp.out (by omega) r ul HR.out HUl.out).mono ?_
  rintro e y2 ⟨a5, k5, rfl, og5, hb5⟩
  have HX2 : Hid (Below W3.heap.size W3 y2) := HY1.out.trans (hb5.mono HY1.out.size)
  rw [HRN.out]
  clear og5 hb5 d0 d1 d2 d3
  obtain ⟨g0, g1, g2⟩ := (HQ.out _ HX2.out).2.2.1.cells
  have f0 := (HQ.out _ HX2.out).2.2.1.frozen 0
  have f1 := (HQ.out _ HX2.out).2.2.1.frozen 1
  have f2 := (HQ.out _ HX2.out).2.2.1.frozen 2
  have HBx : Hid (Below w.heap.size w y2) := (HQ.out _ HX2.out).2.2.2.1
  go_wp2_with fail
  refine bodyPost_ret (v := .tuple #[.agg #[.int .i64 0, .bool false, .slice none 0 0], .iface 63 (.agg #[.int .i64 3])]) (by simp [results, Tryd.f34, go_sem, g0, g1, g2]) rfl ?_
  exact ⟨rfl, ((HBx.out.setCell (p := ⟨w.heap.size + 1 + 1, 0, none⟩) (by show w.heap.size ≤ w.heap.size + 1 + 1; omega) _).setCell (p := ⟨w.heap.size + 1 + 1, 1, none⟩) (by show w.heap.size ≤ w.heap.size + 1 + 1; omega) _).setCell (p := ⟨w.heap.size + 1 + 1, 2, none⟩) (by show w.heap.size ≤ w.heap.size + 1 + 1; omega) _⟩

set_option maxRecDepth 10000 in
set_option maxHeartbeats 1600000 in
theorem grown_head (s : Int) (en : Bool) (a : Option Addr) (n cap : Nat) (zs : List Int) (k f fs : Int) (b : Option Addr) (m capb : Nat) (ys : List Int) (w : World) (hg : Seg w a n zs) (hf : Seg w b m ys) (hcap : m ≤ capb) (hl : n ≤ 1048576) (hm : m ≤ 1048576) (u : List Int) (ul : Nat) (ho : ordB s en n k f fs m = true) (hk : k = 1) (hr : unpadR (bits .and .i64 f 8 != 0) ((k == 1) && (bits .and .i64 f 32 != 0)) ys = some u) (hu : u.length = ul) (eb : Bool) (heb : (bits .and .i64 f 1 != 0) = eb) :
    Calls Tryd.prog 34 #[.agg #[.int .i64 s, .bool en, .slice a n cap], .agg #[.int .i64 k, .int .i64 f, .int .i64 fs, .slice b m capb]] w fun e w' => ∃ a' cap', e = .returned (.tuple #[.agg #[.int .i64 fs, .bool eb, .slice a' ul cap'], .nilIface]) ∧ Owns w' w.heap.size a' ul cap' u ∧ Below w.heap.size w w' := by
  have HO : Hid (ordB s en n k f fs m = true) := ho
  have hm1 := (ordB_yes ho).2.2.2
  have hn3 := (ordB_yes ho).2.2.1
  clear ho
  have hk1 : (k == 1) = true := by simp [hk]
  have HR : Hid (unpadR (bits .and .i64 f 8 != 0) ((k == 1) && (bits .and .i64 f 32 != 0)) ys = some u) := hr
  have HUl : Hid (((some u).getD []).length = ul) := hu
  have hub : ul ≤ 1000 := by have h1 := unpad_len _ _ _ _ hr; have h2 := hf.1; omega
  clear hr hu hk
  obtain ⟨i0, hi, hz0, hz1, hz2⟩ := info_parts Tryd.info5
  have HSg : Hid (Seg w a n zs) := hg
  have HSf : Hid (Seg w b m ys) := hf
  have HCp : Hid (m ≤ capb) := hcap
  obtain ⟨W3, hW3⟩ : ∃ W3, ((w.alloc (.cells #[.int .i64 s, .bool en, .slice a n cap] 30)).alloc (.cells #[.int .i64 k, .int .i64 f, .int .i64 fs, .slice b m capb] 33)).alloc (.cells #[.int .i64 0, .bool false, .slice none 0 0] 30) = W3 := ⟨_, rfl⟩
  have q1 : Box3 W3 w.heap.size 30 (.int .i64 s) (.bool en) (.slice a n cap) := by rw [← hW3]; exact ((Box3.new _ _ _ _ _).alloc _).alloc _
  have q2 : Box4 W3 (w.heap.size + 1) 33 (.int .i64 k) (.int .i64 f) (.int .i64 fs) (.slice b m capb) := by
    rw [← hW3]
    have := (Box4.new (w.alloc (.cells #[.int .i64 s, .bool en, .slice a n cap] 30)) 33 (.int .i64 k) (.int .i64 f) (.int .i64 fs) (.slice b m capb)).alloc (.cells #[.int .i64 0, .bool false, .slice none 0 0] 30)
    rwa [World.size_alloc] at this
  have q3 : Box3 W3 (w.heap.size + 1 + 1) 30 (.int .i64 0) (.bool false) (.slice none 0 0) := by
    rw [← hW3]
    have := Box3.new ((w.alloc (.cells #[.int .i64 s, .bool en, .slice a n cap] 30)).alloc (.cells #[.int .i64 k, .int .i64 f, .int .i64 fs, .slice b m capb] 33)) 30 (.int .i64 0) (.bool false) (.slice none 0 0)
    rwa [World.size_alloc, World.size_alloc] at this
  have HB3 : Hid (Below w.heap.size w W3) := by show Below _ _ _; rw [← hW3]; exact (((Below.refl _ _).alloc (Nat.le_refl _) _).alloc (by simp) _).alloc (by simp; omega) _
  have HZ3 : Hid (W3.heap.size = w.heap.size + 3) := by show _ = _; rw [← hW3]; simp
  have HQ : Hid (∀ W, Below W3.heap.size W3 W → Box3 W w.heap.size 30 (.int .i64 s) (.bool en) (.slice a n cap) ∧ Box4 W (w.heap.size + 1) 33 (.int .i64 k) (.int .i64 f) (.int .i64 fs) (.slice b m capb) ∧ Box3 W (w.heap.size + 1 + 1) 30 (.int .i64 0) (.bool false) (.slice none 0 0) ∧ Below w.heap.size w W ∧ Seg W a n zs ∧ Seg W b m ys) := fun W h => by
    have hw : Below w.heap.size w W := HB3.out.trans (h.mono HB3.out.size)
    exact ⟨q1.stays h, q2.stays h, q3.stays h, hw, HSg.out.below hw, HSf.out.below hw⟩
  have HE3 : Hid (((w.alloc (.cells #[.int .i64 s, .bool en, .slice a n cap] 30)).alloc (.cells #[.int .i64 k, .int .i64 f, .int .i64 fs, .slice b m capb] 33)).alloc (.cells #[.int .i64 0, .bool false, .slice none 0 0] 30) = W3) := hW3
  clear hW3 q1 q2 q3 hg hf hcap
  go_enter Tryd.func34, Tryd.ntmps34
  go_upto_region 1 with fail
  rw [HE3.out]
  obtain ⟨c0, c1, c2⟩ := (HQ.out _ (Below.refl _ _)).1.cells
  obtain ⟨d0, d1, d2, d3⟩ := (HQ.out _ (Below.refl _ _)).2.1.cells
  go_wp2_with fail
  refine (inOrder_any s en a n cap k f fs b m capb _).mono ?_
  rintro e x1 ⟨rfl, hb1⟩
  rw [HO.out]
  have HX1 : Hid (Below W3.heap.size W3 x1) := hb1
  clear hb1 c0 c1 c2 d0 d1 d2 d3 HE3
  obtain ⟨c0, c1, c2⟩ := (HQ.out _ HX1.out).1.cells
  go_wp2_with fail
  refine (copyGa_any s en a n cap zs _ (HQ.out _ HX1.out).2.2.2.2.1 hl).mono ?_
  rintro e y1 ⟨a4, k4, rfl, og4, hb2⟩
  have hz := HZ3.out
  have hz1 := HX1.out.size
  have hz2 := hb2.size
  have HY1 : Hid (Below W3.heap.size W3 (y1.alloc (.cells #[.int .i64 s, .bool en, .slice a4 n k4] 30))) := (HX1.out.trans (hb2.mono HX1.out.size)).alloc (by omega) _
  have HN1 : Hid (Box3 (y1.alloc (.cells #[.int .i64 s, .bool en, .slice a4 n k4] 30)) y1.heap.size 30 (.int .i64 s) (.bool en) (.slice a4 n k4)) := Box3.new _ _ _ _ _
  have HG1 : Hid (Owns (y1.alloc (.cells #[.int .i64 s, .bool en, .slice a4 n k4] 30)) x1.heap.size a4 n k4 zs ∧ ∀ q, a4.map (·.block) = some q → q < y1.heap.size) := ⟨og4.below ((Below.refl _ _).alloc (Nat.le_refl _) _), fun q hq => (og4.lt q hq).2⟩
  have HS1 : Hid (x1.heap.size ≤ y1.heap.size ∧ w.heap.size + 3 ≤ x1.heap.size) := ⟨hz2, by omega⟩
  obtain ⟨Y, hY⟩ : ∃ Y, y1.alloc (.cells #[.int .i64 s, .bool en, .slice a4 n k4] 30) = Y := ⟨_, rfl⟩
  have HYs : Hid (Y.heap.size = y1.heap.size + 1) := by show _ = _; rw [← hY]; simp
  have HYe : Hid (y1.alloc (.cells #[.int .i64 s, .bool en, .slice a4 n k4] 30) = Y) := hY
  rw [hY] at HY1 HN1 HG1
  clear hb2 og4 hz hz1 hz2 c0 c1 c2 hY
  go_upto_region 4 with fail
  rw [HYe.out]
  clear HYe
  generalize y1.heap.size = nb at *
  obtain ⟨d0, d1, d2, d3⟩ := (HQ.out _ HY1.out).2.1.cells
  go_wp2_with fail
  refine (implUnp_any k f fs b m capb ys _ (HQ.out _ HY1.out).2.2.2.2.2 HCp.out (by omega) (some u) ul HR.out HUl.out).mono ?_
  rintro e y2 ⟨a5, k5, rfl, og5, hb5⟩
  have HX2 : Hid (Below W3.heap.size W3 y2) := HY1.out.trans (hb5.mono HY1.out.size)
  have hs5 := hb5.size
  have h1 := HS1.out
  have h2 := HYs.out
  have HNx0 : Hid (Box3 y2 nb 30 (.int .i64 s) (.bool en) (.slice a4 n k4)) := HN1.out.stays hb5
  have HOu : Hid (Owns y2 Y.heap.size a5 ul k5 u) := og5
  obtain ⟨d0, d1, d2, d3⟩ := (HQ.out _ HX2.out).2.1.cells
  obtain ⟨e0, e1, e2⟩ := HNx0.out.cells
  have f0 := HNx0.out.frozen 0
  have f1 := HNx0.out.frozen 1
  have f2 := HNx0.out.frozen 2
  obtain ⟨Z, hZ⟩ : ∃ Z, ((y2.setCell ⟨nb, 0, none⟩ (.int .i64 fs)).setCell ⟨nb, 1, none⟩ (.bool eb)).setCell ⟨nb, 2, none⟩ (.slice a5 ul k5) = Z := ⟨_, rfl⟩
  have HZe : Hid (((y2.setCell ⟨nb, 0, none⟩ (.int .i64 fs)).setCell ⟨nb, 1, none⟩ (.bool eb)).setCell ⟨nb, 2, none⟩ (.slice a5 ul k5) = Z) := hZ
  have HNx : Hid (Box3 Z nb 30 (.int .i64 fs) (.bool eb) (.slice a5 ul k5)) := by
    show Box3 _ _ _ _ _ _
    rw [← hZ]
    exact box3_set2 (box3_set1 (box3_set0 HNx0.out _) _) _
  have HQR : Hid (Box3 Z (w.heap.size + 1 + 1) 30 (.int .i64 0) (.bool false) (.slice none 0 0)) := by
    show Box3 _ _ _ _ _ _
    rw [← hZ]
    exact box3_other (box3_other (box3_other (HQ.out _ HX2.out).2.2.1 (by omega)) (by omega)) (by omega)
  have HOx : Hid (Owns Z Y.heap.size a5 ul k5 u ∧ w.heap.size + 3 ≤ Y.heap.size) := by
    refine ⟨?_, by omega⟩
    have hn : a5.map (·.block) ≠ some nb := fun e => by have h3 := (HOu.out.lt _ e).1; omega
    rw [← hZ]
    exact owns_set (owns_set (owns_set HOu.out hn) hn) hn
  have HBx : Hid (Below w.heap.size w Z) := by
    show Below _ _ _
    rw [← hZ]
    have hb := (HQ.out _ HX2.out).2.2.2.1
    exact ((hb.setCell (p := ⟨nb, 0, none⟩) (by show w.heap.size ≤ nb; omega) _).setCell (p := ⟨nb, 1, none⟩) (by show w.heap.size ≤ nb; omega) _).setCell (p := ⟨nb, 2, none⟩) (by show w.heap.size ≤ nb; omega) _
  have hubi : ¬ (3000 : Int) < (ul : Int) := by omega
  clear hZ og5 hb5 hs5 h1 h2 HOu HNx0
  go_upto_region 12 with fail
  rw [HZe.out]
  clear HZe d0 d1 d2 d3 e0 e1 e2 f0 f1 f2
  obtain ⟨e0, e1, e2⟩ := HNx.out.cells
  obtain ⟨g0, g1, g2⟩ := (HQR.out).cells
  have f0 := HQR.out.frozen 0
  have f1 := HQR.out.frozen 1
  have f2 := HQR.out.frozen 2
  have HF : Hid (Owns (((Z.setCell ⟨w.heap.size + 1 + 1, 0, none⟩ (.int .i64 fs)).setCell ⟨w.heap.size + 1 + 1, 1, none⟩ (.bool eb)).setCell ⟨w.heap.size + 1 + 1, 2, none⟩ (.slice a5 ul k5)) w.heap.size a5 ul k5 u ∧ Below w.heap.size w (((Z.setCell ⟨w.heap.size + 1 + 1, 0, none⟩ (.int .i64 fs)).setCell ⟨w.heap.size + 1 + 1, 1, none⟩ (.bool eb)).setCell ⟨w.heap.size + 1 + 1, 2, none⟩ (.slice a5 ul k5))) := by
    have hn : a5.map (·.block) ≠ some (w.heap.size + 1 + 1) := fun e => by have h3 := (HOx.out.1.lt _ e).1; have h4 := HOx.out.2; omega
    refine ⟨(owns_set (owns_set (owns_set HOx.out.1 hn) hn) hn).low (by have h4 := HOx.out.2; omega), ?_⟩
    exact ((HBx.out.setCell (p := ⟨w.heap.size + 1 + 1, 0, none⟩) (by show w.heap.size ≤ w.heap.size + 1 + 1; omega) _).setCell (p := ⟨w.heap.size + 1 + 1, 1, none⟩) (by show w.heap.size ≤ w.heap.size + 1 + 1; omega) _).setCell (p := ⟨w.heap.size + 1 + 1, 2, none⟩) (by show w.heap.size ≤ w.heap.size + 1 + 1; omega) _
  go_wp2_with fail
  refine bodyPost_ret (v := .tuple #[.agg #[.int .i64 fs, .bool eb, .slice a5 ul k5], .nilIface]) (by simp [results, Tryd.f34, go_sem, g0, g1, g2]) rfl ?_
  exact ⟨_, _, rfl, HF.out.1, HF.out.2⟩

set_option maxRecDepth 10000 in
set_option maxHeartbeats 1600000 in
theorem grown_big (s : Int) (en : Bool) (a : Option Addr) (n cap : Nat) (zs : List Int) (k f fs : Int) (b : Option Addr) (m capb : Nat) (ys : List Int) (w : World) (hg : Seg w a n zs) (hf : Seg w b m ys) (hcap : m ≤ capb) (hl : n ≤ 1048576) (hm : m ≤ 1048576) (ho : ordB s en n k f fs m = true) (hbs : ∃ ad, b = some ad) (hk : k = 9) (hbig : 3000 < n + m) :
    Calls Tryd.prog 34 #[.agg #[.int .i64 s, .bool en, .slice a n cap], .agg #[.int .i64 k, .int .i64 f, .int .i64 fs, .slice b m capb]] w fun e w' => e = .returned (.tuple #[.agg #[.int .i64 0, .bool false, .slice none 0 0], .iface 63 (.agg #[.int .i64 4])]) ∧ Below w.heap.size w w' := by
  have HO : Hid (ordB s en n k f fs m = true) := ho
  have hm1 := (ordB_yes ho).2.2.2
  have hn3 := (ordB_yes ho).2.2.1
  clear ho
  have hk1 : (k == 1) = false := by simp [hk]
  have hk9 : (k == 9) = true := by simp [hk]
  clear hk
  obtain ⟨i0, hi, hz0, hz1, hz2⟩ := info_parts Tryd.info5
  have HSg : Hid (Seg w a n zs) := hg
  have HSf : Hid (Seg w b m ys) := hf
  have HCp : Hid (m ≤ capb) := hcap
  obtain ⟨W3, hW3⟩ : ∃ W3, ((w.alloc (.cells #[.int .i64 s, .bool en, .slice a n cap] 30)).alloc (.cells #[.int .i64 k, .int .i64 f, .int .i64 fs, .slice b m capb] 33)).alloc (.cells #[.int .i64 0, .bool false, .slice none 0 0] 30) = W3 := ⟨_, rfl⟩
  have q1 : Box3 W3 w.heap.size 30 (.int .i64 s) (.bool en) (.slice a n cap) := by rw [← hW3]; exact ((Box3.new _ _ _ _ _).alloc _).alloc _
  have q2 : Box4 W3 (w.heap.size + 1) 33 (.int .i64 k) (.int .i64 f) (.int .i64 fs) (.slice b m capb) := by
    rw [← hW3]
    have := (Box4.new (w.alloc (.cells #[.int .i64 s, .bool en, .slice a n cap] 30)) 33 (.int .i64 k) (.int .i64 f) (.int .i64 fs) (.slice b m capb)).alloc (.cells #[.int .i64 0, .bool false, .slice none 0 0] 30)
    rwa [World.size_alloc] at this
  have q3 : Box3 W3 (w.heap.size + 1 + 1) 30 (.int .i64 0) (.bool false) (.slice none 0 0) := by
    rw [← hW3]
    have := Box3.new ((w.alloc (.cells #[.int .i64 s, .bool en, .slice a n cap] 30)).alloc (.cells #[.int .i64 k, .int .i64 f, .int .i64 fs, .slice b m capb] 33)) 30 (.int .i64 0) (.bool false) (.slice none 0 0)
    rwa [World.size_alloc, World.size_alloc] at this
  have HB3 : Hid (Below w.heap.size w W3) := by show Below _ _ _; rw [← hW3]; exact (((Below.refl _ _).alloc (Nat.le_refl _) _).alloc (by simp) _).alloc (by simp; omega) _
  have HZ3 : Hid (W3.heap.size = w.heap.size + 3) := by show _ = _; rw [← hW3]; simp
  have HQ : Hid (∀ W, Below W3.heap.size W3 W → Box3 W w.heap.size 30 (.int .i64 s) (.bool en) (.slice a n cap) ∧ Box4 W (w.heap.size + 1) 33 (.int .i64 k) (.int .i64 f) (.int .i64 fs) (.slice b m capb) ∧ Box3 W (w.heap.size + 1 + 1) 30 (.int .i64 0) (.bool false) (.slice none 0 0) ∧ Below w.heap.size w W ∧ Seg W a n zs ∧ Seg W b m ys) := fun W h => by
    have hw : Below w.heap.size w W := HB3.out.trans (h.mono HB3.out.size)
    exact ⟨q1.stays h, q2.stays h, q3.stays h, hw, HSg.out.below hw, HSf.out.below hw⟩
  have HE3 : Hid (((w.alloc (.cells #[.int .i64 s, .bool en, .slice a n cap] 30)).alloc (.cells #[.int .i64 k, .int .i64 f, .int .i64 fs, .slice b m capb] 33)).alloc (.cells #[.int .i64 0, .bool false, .slice none 0 0] 30) = W3) := hW3
  clear hW3 q1 q2 q3 hg hf hcap
  go_enter Tryd.func34, Tryd.ntmps34
  go_upto_region 1 with fail
  rw [HE3.out]
  obtain ⟨c0, c1, c2⟩ := (HQ.out _ (Below.refl _ _)).1.cells
  obtain ⟨d0, d1, d2, d3⟩ := (HQ.out _ (Below.refl _ _)).2.1.cells
  go_wp2_with fail
  refine (inOrder_any s en a n cap k f fs b m capb _).mono ?_
  rintro e x1 ⟨rfl, hb1⟩
  rw [HO.out]
  have HX1 : Hid (Below W3.heap.size W3 x1) := hb1
  clear hb1 c0 c1 c2 d0 d1 d2 d3 HE3
  obtain ⟨c0, c1, c2⟩ := (HQ.out _ HX1.out).1.cells
  go_wp2_with fail
  refine (copyGa_any s en a n cap zs _ (HQ.out _ HX1.out).2.2.2.2.1 hl).mono ?_
  rintro e y1 ⟨a4, k4, rfl, og4, hb2⟩
  have hz := HZ3.out
  have hz1 := HX1.out.size
  have hz2 := hb2.size
  have HY1 : Hid (Below W3.heap.size W3 (y1.alloc (.cells #[.int .i64 s, .bool en, .slice a4 n k4] 30))) := (HX1.out.trans (hb2.mono HX1.out.size)).alloc (by omega) _
  have HN1 : Hid (Box3 (y1.alloc (.cells #[.int .i64 s, .bool en, .slice a4 n k4] 30)) y1.heap.size 30 (.int .i64 s) (.bool en) (.slice a4 n k4)) := Box3.new _ _ _ _ _
  have HG1 : Hid (Owns (y1.alloc (.cells #[.int .i64 s, .bool en, .slice a4 n k4] 30)) x1.heap.size a4 n k4 zs ∧ ∀ q, a4.map (·.block) = some q → q < y1.heap.size) := ⟨og4.below ((Below.refl _ _).alloc (Nat.le_refl _) _), fun q hq => (og4.lt q hq).2⟩
  have HS1 : Hid (x1.heap.size ≤ y1.heap.size ∧ w.heap.size + 3 ≤ x1.heap.size) := ⟨hz2, by omega⟩
  obtain ⟨Y, hY⟩ : ∃ Y, y1.alloc (.cells #[.int .i64 s, .bool en, .slice a4 n k4] 30) = Y := ⟨_, rfl⟩
  have HYs : Hid (Y.heap.size = y1.heap.size + 1) := by show _ = _; rw [← hY]; simp
  have HYe : Hid (y1.alloc (.cells #[.int .i64 s, .bool en, .slice a4 n k4] 30) = Y) := hY
  rw [hY] at HY1 HN1 HG1
  clear hb2 og4 hz hz1 hz2 c0 c1 c2 hY
  go_upto_region 4 with fail
  rw [HYe.out]
  clear HYe
  generalize y1.heap.size = nb at *
  obtain ⟨d0, d1, d2, d3⟩ := (HQ.out _ HY1.out).2.1.cells
  obtain ⟨ad, rfl⟩ := hbs
  have h1 := HS1.out
  have h2 := HYs.out
  obtain ⟨e0, e1, e2⟩ := HN1.out.cells
  have HSY : Hid (Seg Y (some ad) m ys) := (HQ.out _ HY1.out).2.2.2.2.2
  have HA : Hid (Y.ownsRow x1.heap.size 5 1 (.slice a4 n k4) n (zs.map (Value.int .u8))) := HG1.out.1.1
  have hyl : ys.length = m := HSY.out.1
  have hxs : x1.heap.size ≤ Y.heap.size := by omega
  go_wp2_with (at_builtin; refine wpList_append_own _ rfl _ _ 22 rfl x1.heap.size 5 i0 (.int .u8 0) 1 1 Tryd.underlying22 hi hz0 hz1 hz2 rfl (by decide) (.slice a4 n k4) n (zs.map (Value.int .u8)) rfl HA.out ad m capb (ys.map (Value.int .u8)) rfl (by simp [hyl]) (seg_src HSY.out ad rfl) (ints_one ys) (by unfold maxLen; omega) (by omega) hxs ?_; intro v5 Z5 hown5 hgrow5 _; refine Hid.out ?_)
  refine hidden ?_
  obtain ⟨a5, k5, rfl⟩ := shape_of_owns hown5
  rw [ownBlock_of] at hgrow5
  have hlo : ∀ q, a4.map (·.block) = some q → x1.heap.size ≤ q ∧ q < nb := fun q hq => ⟨(HG1.out.1.lt q hq).1, HG1.out.2 q hq⟩
  have HO5 : Hid (Owns Z5 x1.heap.size a5 (n + m) k5 (zs ++ ys)) := ⟨by rw [List.map_append]; exact hown5, fun x hx => by
    rcases List.mem_append.1 hx with hx | hx
    · exact HG1.out.1.2 x hx
    · exact HSY.out.2.1 x hx⟩
  have HN5 : Hid (Box3 Z5 nb 30 (.int .i64 s) (.bool en) (.slice a4 n k4)) := HN1.out.grown hgrow5 (fun e => by have := hlo nb e; omega)
  have HX5 : Hid (Below W3.heap.size W3 Z5) := HY1.out.grown hgrow5 HY1.out.size (fun q e => by have h3 := (hlo q e).1; have h4 := HX1.out.size; omega)
  have HT5 : Hid (∀ q, a5.map (·.block) = some q → q ≠ nb ∧ x1.heap.size ≤ q) := fun q hq => ⟨fun e => by
    subst e
    exact HO5.out.other (show Z5.heap[q]? = _ from HN5.out) (by decide) hq, (HO5.out.lt q hq).1⟩
  obtain ⟨L, hL⟩ : ∃ L, n + m = L := ⟨_, rfl⟩
  have HLe : Hid (n + m = L) := hL
  rw [hL] at HO5 ⊢
  clear hown5 hgrow5 hlo e0 e1 e2 HA HSY hyl d0 d1 d2 d3
  obtain ⟨e0, e1, e2⟩ := HN5.out.cells
  have f2 := HN5.out.frozen 2
  obtain ⟨Z, hZ⟩ : ∃ Z, Z5.setCell ⟨nb, 2, none⟩ (.slice a5 L k5) = Z := ⟨_, rfl⟩
  have HZe : Hid (Z5.setCell ⟨nb, 2, none⟩ (.slice a5 L k5) = Z) := hZ
  have HNx : Hid (Box3 Z nb 30 (.int .i64 s) (.bool en) (.slice a5 L k5)) := by
    show Box3 _ _ _ _ _ _
    rw [← hZ]
    exact box3_set2 HN5.out _
  have HX6 : Hid (Below W3.heap.size W3 Z) := by
    show Below _ _ _
    rw [← hZ]
    exact HX5.out.setCell (p := ⟨nb, 2, none⟩) (by show W3.heap.size ≤ nb; have := HX1.out.size; omega) _
  have HQR : Hid (Box3 Z (w.heap.size + 1 + 1) 30 (.int .i64 0) (.bool false) (.slice none 0 0)) := (HQ.out _ HX6.out).2.2.1
  have HOx : Hid (Owns Z x1.heap.size a5 L k5 (zs ++ ys) ∧ w.heap.size + 3 ≤ x1.heap.size) := by
    refine ⟨?_, by omega⟩
    rw [← hZ]
    exact owns_set HO5.out (fun e => (HT5.out nb e).1 rfl)
  have HBx : Hid (Below w.heap.size w Z) := (HQ.out _ HX6.out).2.2.2.1
  clear hZ HO5 HT5 HX5 h1 h2 hxs hL
  go_upto_region 12 with fail
  rw [HZe.out]
  clear HZe e0 e1 e2 f2
  have hbi : (3000 : Int) < (L : Int) := by have := HLe.out; omega
  obtain ⟨e0, e1, e2⟩ := HNx.out.cells
  obtain ⟨g0, g1, g2⟩ := (HQ.out _ HX6.out).2.2.1.cells
  have f0 := (HQ.out _ HX6.out).2.2.1.frozen 0
  have f1 := (HQ.out _ HX6.out).2.2.1.frozen 1
  have f2 := (HQ.out _ HX6.out).2.2.1.frozen 2
  have HBz : Hid (Below w.heap.size w Z) := (HQ.out _ HX6.out).2.2.2.1
  go_wp2_with fail
  refine bodyPost_ret (v := .tuple #[.agg #[.int .i64 0, .bool false, .slice none 0 0], .iface 63 (.agg #[.int .i64 4])]) (by simp [results, Tryd.f34, go_sem, g0, g1, g2]) rfl ?_
  exact ⟨rfl, ((HBz.out.setCell (p := ⟨w.heap.size + 1 + 1, 0, none⟩) (by show w.heap.size ≤ w.heap.size + 1 + 1; omega) _).setCell (p := ⟨w.heap.size + 1 + 1, 1, none⟩) (by show w.heap.size ≤ w.heap.size + 1 + 1; omega) _).setCell (p := ⟨w.heap.size + 1 + 1, 2, none⟩) (by show w.heap.size ≤ w.heap.size + 1 + 1; omega) _⟩

set_option maxRecDepth 10000 in
set_option maxHeartbeats 1600000 in
theorem grown_more (s : Int) (en : Bool) (a : Option Addr) (n cap : Nat) (zs : List Int) (k f fs : Int) (b : Option Addr) (m capb : Nat) (ys : List Int) (w : World) (hg : Seg w a n zs) (hf : Seg w b m ys) (hcap : m ≤ capb) (hl : n ≤ 1048576) (hm : m ≤ 1048576) (L : Nat) (ho : ordB s en n k f fs m = true) (hbs : ∃ ad, b = some ad) (hk : k = 9) (hbig : ¬ 3000 < n + m) (hLL : n + m = L) :
    Calls Tryd.prog 34 #[.agg #[.int .i64 s, .bool en, .slice a n cap], .agg #[.int .i64 k, .int .i64 f, .int .i64 fs, .slice b m capb]] w fun e w' => ∃ a' cap', e = .returned (.tuple #[.agg #[.int .i64 s, .bool en, .slice a' L cap'], .nilIface]) ∧ Owns w' w.heap.size a' L cap' (zs ++ ys) ∧ Below w.heap.size w w' := by
  have HO : Hid (ordB s en n k f fs m = true) := ho
  have hm1 := (ordB_yes ho).2.2.2
  have hn3 := (ordB_yes ho).2.2.1
  clear ho
  have hk1 : (k == 1) = false := by simp [hk]
  have hk9 : (k == 9) = true := by simp [hk]
  clear hk
  have HLL : Hid (n + m = L) := hLL
  clear hLL
  obtain ⟨i0, hi, hz0, hz1, hz2⟩ := info_parts Tryd.info5
  have HSg : Hid (Seg w a n zs) := hg
  have HSf : Hid (Seg w b m ys) := hf
  have HCp : Hid (m ≤ capb) := hcap
  obtain ⟨W3, hW3⟩ : ∃ W3, ((w.alloc (.cells #[.int .i64 s, .bool en, .slice a n cap] 30)).alloc (.cells #[.int .i64 k, .int .i64 f, .int .i64 fs, .slice b m capb] 33)).alloc (.cells #[.int .i64 0, .bool false, .slice none 0 0] 30) = W3 := ⟨_, rfl⟩
  have q1 : Box3 W3 w.heap.size 30 (.int .i64 s) (.bool en) (.slice a n cap) := by rw [← hW3]; exact ((Box3.new _ _ _ _ _).alloc _).alloc _
  have q2 : Box4 W3 (w.heap.size + 1) 33 (.int .i64 k) (.int .i64 f) (.int .i64 fs) (.slice b m capb) := by
    rw [← hW3]
    have := (Box4.new (w.alloc (.cells #[.int .i64 s, .bool en, .slice a n cap] 30)) 33 (.int .i64 k) (.int .i64 f) (.int .i64 fs) (.slice b m capb)).alloc (.cells #[.int .i64 0, .bool false, .slice none 0 0] 30)
    rwa [World.size_alloc] at this
  have q3 : Box3 W3 (w.heap.size + 1 + 1) 30 (.int .i64 0) (.bool false) (.slice none 0 0) := by
    rw [← hW3]
    have := Box3.new ((w.alloc (.cells #[.int .i64 s, .bool en, .slice a n cap] 30)).alloc (.cells #[.int .i64 k, .int .i64 f, .int .i64 fs, .slice b m capb] 33)) 30 (.int .i64 0) (.bool false) (.slice none 0 0)
    rwa [World.size_alloc, World.size_alloc] at this
  have HB3 : Hid (Below w.heap.size w W3) := by show Below _ _ _; rw [← hW3]; exact (((Below.refl _ _).alloc (Nat.le_refl _) _).alloc (by simp) _).alloc (by simp; omega) _
  have HZ3 : Hid (W3.heap.size = w.heap.size + 3) := by show _ = _; rw [← hW3]; simp
  have HQ : Hid (∀ W, Below W3.heap.size W3 W → Box3 W w.heap.size 30 (.int .i64 s) (.bool en) (.slice a n cap) ∧ Box4 W (w.heap.size + 1) 33 (.int .i64 k) (.int .i64 f) (.int .i64 fs) (.slice b m capb) ∧ Box3 W (w.heap.size + 1 + 1) 30 (.int .i64 0) (.bool false) (.slice none 0 0) ∧ Below w.heap.size w W ∧ Seg W a n zs ∧ Seg W b m ys) := fun W h => by
    have hw : Below w.heap.size w W := HB3.out.trans (h.mono HB3.out.size)
    exact ⟨q1.stays h, q2.stays h, q3.stays h, hw, HSg.out.below hw, HSf.out.below hw⟩
  have HE3 : Hid (((w.alloc (.cells #[.int .i64 s, .bool en, .slice a n cap] 30)).alloc (.cells #[.int .i64 k, .int .i64 f, .int .i64 fs, .slice b m capb] 33)).alloc (.cells #[.int .i64 0, .bool false, .slice none 0 0] 30) = W3) := hW3
  clear hW3 q1 q2 q3 hg hf hcap
  go_enter Tryd.func34, Tryd.ntmps34
  go_upto_region 1 with fail
  rw [HE3.out]
  obtain ⟨c0, c1, c2⟩ := (HQ.out _ (Below.refl _ _)).1.cells
  obtain ⟨d0, d1, d2, d3⟩ := (HQ.out _ (Below.refl _ _)).2.1.cells
  go_wp2_with fail
  refine (inOrder_any s en a n cap k f fs b m capb _).mono ?_
  rintro e x1 ⟨rfl, hb1⟩
  rw [HO.out]
  have HX1 : Hid (Below W3.heap.size W3 x1) := hb1
  clear hb1 c0 c1 c2 d0 d1 d2 d3 HE3
  obtain ⟨c0, c1, c2⟩ := (HQ.out _ HX1.out).1.cells
  go_wp2_with fail
  refine (copyGa_any s en a n cap zs _ (HQ.out _ HX1.out).2.2.2.2.1 hl).mono ?_
  rintro e y1 ⟨a4, k4, rfl, og4, hb2⟩
  have hz := HZ3.out
  have hz1 := HX1.out.size
  have hz2 := hb2.size
  have HY1 : Hid (Below W3.heap.size W3 (y1.alloc (.cells #[.int .i64 s, .bool en, .slice a4 n k4] 30))) := (HX1.out.trans (hb2.mono HX1.out.size)).alloc (by omega) _
  have HN1 : Hid (Box3 (y1.alloc (.cells #[.int .i64 s, .bool en, .slice a4 n k4] 30)) y1.heap.size 30 (.int .i64 s) (.bool en) (.slice a4 n k4)) := Box3.new _ _ _ _ _
  have HG1 : Hid (Owns (y1.alloc (.cells #[.int .i64 s, .bool en, .slice a4 n k4] 30)) x1.heap.size a4 n k4 zs ∧ ∀ q, a4.map (·.block) = some q → q < y1.heap.size) := ⟨og4.below ((Below.refl _ _).alloc (Nat.le_refl _) _), fun q hq => (og4.lt q hq).2⟩
  have HS1 : Hid (x1.heap.size ≤ y1.heap.size ∧ w.heap.size + 3 ≤ x1.heap.size) := ⟨hz2, by omega⟩
  obtain ⟨Y, hY⟩ : ∃ Y, y1.alloc (.cells #[.int .i64 s, .bool en, .slice a4 n k4] 30) = Y := ⟨_, rfl⟩
  have HYs : Hid (Y.heap.size = y1.heap.size + 1) := by show _ = _; rw [← hY]; simp
  have HYe : Hid (y1.alloc (.cells #[.int .i64 s, .bool en, .slice a4 n k4] 30) = Y) := hY
  rw [hY] at HY1 HN1 HG1
  clear hb2 og4 hz hz1 hz2 c0 c1 c2 hY
  go_upto_region 4 with fail
  rw [HYe.out]
  clear HYe
  generalize y1.heap.size = nb at *
  obtain ⟨d0, d1, d2, d3⟩ := (HQ.out _ HY1.out).2.1.cells
  obtain ⟨ad, rfl⟩ := hbs
  have h1 := HS1.out
  have h2 := HYs.out
  obtain ⟨e0, e1, e2⟩ := HN1.out.cells
  have HSY : Hid (Seg Y (some ad) m ys) := (HQ.out _ HY1.out).2.2.2.2.2
  have HA : Hid (Y.ownsRow x1.heap.size 5 1 (.slice a4 n k4) n (zs.map (Value.int .u8))) := HG1.out.1.1
  have hyl : ys.length = m := HSY.out.1
  have hxs : x1.heap.size ≤ Y.heap.size := by omega
  go_wp2_with (at_builtin; refine wpList_append_own _ rfl _ _ 22 rfl x1.heap.size 5 i0 (.int .u8 0) 1 1 Tryd.underlying22 hi hz0 hz1 hz2 rfl (by decide) (.slice a4 n k4) n (zs.map (Value.int .u8)) rfl HA.out ad m capb (ys.map (Value.int .u8)) rfl (by simp [hyl]) (seg_src HSY.out ad rfl) (ints_one ys) (by unfold maxLen; omega) (by omega) hxs ?_; intro v5 Z5 hown5 hgrow5 _; refine Hid.out ?_)
  refine hidden ?_
  obtain ⟨a5, k5, rfl⟩ := shape_of_owns hown5
  rw [ownBlock_of] at hgrow5
  have hlo : ∀ q, a4.map (·.block) = some q → x1.heap.size ≤ q ∧ q < nb := fun q hq => ⟨(HG1.out.1.lt q hq).1, HG1.out.2 q hq⟩
  have HO5 : Hid (Owns Z5 x1.heap.size a5 (n + m) k5 (zs ++ ys)) := ⟨by rw [List.map_append]; exact hown5, fun x hx => by
    rcases List.mem_append.1 hx with hx | hx
    · exact HG1.out.1.2 x hx
    · exact HSY.out.2.1 x hx⟩
  have HN5 : Hid (Box3 Z5 nb 30 (.int .i64 s) (.bool en) (.slice a4 n k4)) := HN1.out.grown hgrow5 (fun e => by have := hlo nb e; omega)
  have HX5 : Hid (Below W3.heap.size W3 Z5) := HY1.out.grown hgrow5 HY1.out.size (fun q e => by have h3 := (hlo q e).1; have h4 := HX1.out.size; omega)
  have HT5 : Hid (∀ q, a5.map (·.block) = some q → q ≠ nb ∧ x1.heap.size ≤ q) := fun q hq => ⟨fun e => by
    subst e
    exact HO5.out.other (show Z5.heap[q]? = _ from HN5.out) (by decide) hq, (HO5.out.lt q hq).1⟩
  have hL := HLL.out
  have HLe : Hid (n + m = L) := hL
  rw [hL] at HO5 ⊢
  clear hown5 hgrow5 hlo e0 e1 e2 HA HSY hyl d0 d1 d2 d3
  obtain ⟨e0, e1, e2⟩ := HN5.out.cells
  have f2 := HN5.out.frozen 2
  obtain ⟨Z, hZ⟩ : ∃ Z, Z5.setCell ⟨nb, 2, none⟩ (.slice a5 L k5) = Z := ⟨_, rfl⟩
  have HZe : Hid (Z5.setCell ⟨nb, 2, none⟩ (.slice a5 L k5) = Z) := hZ
  have HNx : Hid (Box3 Z nb 30 (.int .i64 s) (.bool en) (.slice a5 L k5)) := by
    show Box3 _ _ _ _ _ _
    rw [← hZ]
    exact box3_set2 HN5.out _
  have HX6 : Hid (Below W3.heap.size W3 Z) := by
    show Below _ _ _
    rw [← hZ]
    exact HX5.out.setCell (p := ⟨nb, 2, none⟩) (by show W3.heap.size ≤ nb; have := HX1.out.size; omega) _
  have HQR : Hid (Box3 Z (w.heap.size + 1 + 1) 30 (.int .i64 0) (.bool false) (.slice none 0 0)) := (HQ.out _ HX6.out).2.2.1
  have HOx : Hid (Owns Z x1.heap.size a5 L k5 (zs ++ ys) ∧ w.heap.size + 3 ≤ x1.heap.size) := by
    refine ⟨?_, by omega⟩
    rw [← hZ]
    exact owns_set HO5.out (fun e => (HT5.out nb e).1 rfl)
  have HBx : Hid (Below w.heap.size w Z) := (HQ.out _ HX6.out).2.2.2.1
  clear hZ HO5 HT5 HX5 h1 h2 hxs hL
  go_upto_region 12 with fail
  rw [HZe.out]
  clear HZe e0 e1 e2 f2
  have hbi : ¬ (3000 : Int) < (L : Int) := by have := HLe.out; omega
  obtain ⟨e0, e1, e2⟩ := HNx.out.cells
  obtain ⟨g0, g1, g2⟩ := (HQR.out).cells
  have f0 := HQR.out.frozen 0
  have f1 := HQR.out.frozen 1
  have f2 := HQR.out.frozen 2
  have HF : Hid (Owns (((Z.setCell ⟨w.heap.size + 1 + 1, 0, none⟩ (.int .i64 s)).setCell ⟨w.heap.size + 1 + 1, 1, none⟩ (.bool en)).setCell ⟨w.heap.size + 1 + 1, 2, none⟩ (.slice a5 L k5)) w.heap.size a5 L k5 (zs ++ ys) ∧ Below w.heap.size w (((Z.setCell ⟨w.heap.size + 1 + 1, 0, none⟩ (.int .i64 s)).setCell ⟨w.heap.size + 1 + 1, 1, none⟩ (.bool en)).setCell ⟨w.heap.size + 1 + 1, 2, none⟩ (.slice a5 L k5))) := by
    have hn : a5.map (·.block) ≠ some (w.heap.size + 1 + 1) := fun e => by have h3 := (HOx.out.1.lt _ e).1; have h4 := HOx.out.2; omega
    refine ⟨(owns_set (owns_set (owns_set HOx.out.1 hn) hn) hn).low (by have h4 := HOx.out.2; omega), ?_⟩
    exact ((HBx.out.setCell (p := ⟨w.heap.size + 1 + 1, 0, none⟩) (by show w.heap.size ≤ w.heap.size + 1 + 1; omega) _).setCell (p := ⟨w.heap.size + 1 + 1, 1, none⟩) (by show w.heap.size ≤ w.heap.size + 1 + 1; omega) _).setCell (p := ⟨w.heap.size + 1 + 1, 2, none⟩) (by show w.heap.size ≤ w.heap.size + 1 + 1; omega) _
  go_wp2_with fail
  refine bodyPost_ret (v := .tuple #[.agg #[.int .i64 s, .bool en, .slice a5 L k5], .nilIface]) (by simp [results, Tryd.f34, go_sem, g0, g1, g2]) rfl ?_
  exact ⟨_, _, rfl, HF.out.1, HF.out.2⟩

set_option maxRecDepth 10000 in
set_option maxHeartbeats 1600000 in
theorem grown_other (s : Int) (en : Bool) (a : Option Addr) (n cap : Nat) (zs : List Int) (k f fs : Int) (b : Option Addr) (m capb : Nat) (ys : List Int) (w : World) (hg : Seg w a n zs) (hf : Seg w b m ys) (hcap : m ≤ capb) (hl : n ≤ 1048576) (hm : m ≤ 1048576) (ho : ordB s en n k f fs m = true) (hk : ¬ k = 1) (hk9 : ¬ k = 9) :
    Calls Tryd.prog 34 #[.agg #[.int .i64 s, .bool en, .slice a n cap], .agg #[.int .i64 k, .int .i64 f, .int .i64 fs, .slice b m capb]] w fun e w' => ∃ a' cap', e = .returned (.tuple #[.agg #[.int .i64 s, .bool en, .slice a' n cap'], .nilIface]) ∧ Owns w' w.heap.size a' n cap' zs ∧ Below w.heap.size w w' := by
  have HO : Hid (ordB s en n k f fs m = true) := ho
  have hm1 := (ordB_yes ho).2.2.2
  have hn3 := (ordB_yes ho).2.2.1
  clear ho
  have hk1 : (k == 1) = false := by simpa using hk
  have hk2 : (k == 9) = false := by simpa using hk9
  clear hk hk9
  obtain ⟨i0, hi, hz0, hz1, hz2⟩ := info_parts Tryd.info5
  have HSg : Hid (Seg w a n zs) := hg
  have HSf : Hid (Seg w b m ys) := hf
  have HCp : Hid (m ≤ capb) := hcap
  obtain ⟨W3, hW3⟩ : ∃ W3, ((w.alloc (.cells #[.int .i64 s, .bool en, .slice a n cap] 30)).alloc (.cells #[.int .i64 k, .int .i64 f, .int .i64 fs, .slice b m capb] 33)).alloc (.cells #[.int .i64 0, .bool false, .slice none 0 0] 30) = W3 := ⟨_, rfl⟩
  have q1 : Box3 W3 w.heap.size 30 (.int .i64 s) (.bool en) (.slice a n cap) := by rw [← hW3]; exact ((Box3.new _ _ _ _ _).alloc _).alloc _
  have q2 : Box4 W3 (w.heap.size + 1) 33 (.int .i64 k) (.int .i64 f) (.int .i64 fs) (.slice b m capb) := by
    rw [← hW3]
    have := (Box4.new (w.alloc (.cells #[.int .i64 s, .bool en, .slice a n cap] 30)) 33 (.int .i64 k) (.int .i64 f) (.int .i64 fs) (.slice b m capb)).alloc (.cells #[.int .i64 0, .bool false, .slice none 0 0] 30)
    rwa [World.size_alloc] at this
  have q3 : Box3 W3 (w.heap.size + 1 + 1) 30 (.int .i64 0) (.bool false) (.slice none 0 0) := by
    rw [← hW3]
    have := Box3.new ((w.alloc (.cells #[.int .i64 s, .bool en, .slice a n cap] 30)).alloc (.cells #[.int .i64 k, .int .i64 f, .int .i64 fs, .slice b m capb] 33)) 30 (.int .i64 0) (.bool false) (.slice none 0 0)
    rwa [World.size_alloc, World.size_alloc] at this
  have HB3 : Hid (Below w.heap.size w W3) := by show Below _ _ _; rw [← hW3]; exact (((Below.refl _ _).alloc (Nat.le_refl _) _).alloc (by simp) _).alloc (by simp; omega) _
  have HZ3 : Hid (W3.heap.size = w.heap.size + 3) := by show _ = _; rw [← hW3]; simp
  have HQ : Hid (∀ W, Below W3.heap.size W3 W → Box3 W w.heap.size 30 (.int .i64 s) (.bool en) (.slice a n cap) ∧ Box4 W (w.heap.size + 1) 33 (.int .i64 k) (.int .i64 f) (.int .i64 fs) (.slice b m capb) ∧ Box3 W (w.heap.size + 1 + 1) 30 (.int .i64 0) (.bool false) (.slice none 0 0) ∧ Below w.heap.size w W ∧ Seg W a n zs ∧ Seg W b m ys) := fun W h => by
    have hw : Below w.heap.size w W := HB3.out.trans (h.mono HB3.out.size)
    exact ⟨q1.stays h, q2.stays h, q3.stays h, hw, HSg.out.below hw, HSf.out.below hw⟩
  have HE3 : Hid (((w.alloc (.cells #[.int .i64 s, .bool en, .slice a n cap] 30)).alloc (.cells #[.int .i64 k, .int .i64 f, .int .i64 fs, .slice b m capb] 33)).alloc (.cells #[.int .i64 0, .bool false, .slice none 0 0] 30) = W3) := hW3
  clear hW3 q1 q2 q3 hg hf hcap
  go_enter Tryd.func34, Tryd.ntmps34
  go_upto_region 1 with fail
  rw [HE3.out]
  obtain ⟨c0, c1, c2⟩ := (HQ.out _ (Below.refl _ _)).1.cells
  obtain ⟨d0, d1, d2, d3⟩ := (HQ.out _ (Below.refl _ _)).2.1.cells
  go_wp2_with fail
  refine (inOrder_any s en a n cap k f fs b m capb _).mono ?_
  rintro e x1 ⟨rfl, hb1⟩
  rw [HO.out]
  have HX1 : Hid (Below W3.heap.size W3 x1) := hb1
  clear hb1 c0 c1 c2 d0 d1 d2 d3 HE3
  obtain ⟨c0, c1, c2⟩ := (HQ.out _ HX1.out).1.cells
  go_wp2_with fail
  refine (copyGa_any s en a n cap zs _ (HQ.out _ HX1.out).2.2.2.2.1 hl).mono ?_
  rintro e y1 ⟨a4, k4, rfl, og4, hb2⟩
  have hz := HZ3.out
  have hz1 := HX1.out.size
  have hz2 := hb2.size
  have HY1 : Hid (Below W3.heap.size W3 (y1.alloc (.cells #[.int .i64 s, .bool en, .slice a4 n k4] 30))) := (HX1.out.trans (hb2.mono HX1.out.size)).alloc (by omega) _
  have HN1 : Hid (Box3 (y1.alloc (.cells #[.int .i64 s, .bool en, .slice a4 n k4] 30)) y1.heap.size 30 (.int .i64 s) (.bool en) (.slice a4 n k4)) := Box3.new _ _ _ _ _
  have HG1 : Hid (Owns (y1.alloc (.cells #[.int .i64 s, .bool en, .slice a4 n k4] 30)) x1.heap.size a4 n k4 zs ∧ ∀ q, a4.map (·.block) = some q → q < y1.heap.size) := ⟨og4.below ((Below.refl _ _).alloc (Nat.le_refl _) _), fun q hq => (og4.lt q hq).2⟩
  have HS1 : Hid (x1.heap.size ≤ y1.heap.size ∧ w.heap.size + 3 ≤ x1.heap.size) := ⟨hz2, by omega⟩
  obtain ⟨Y, hY⟩ : ∃ Y, y1.alloc (.cells #[.int .i64 s, .bool en, .slice a4 n k4] 30) = Y := ⟨_, rfl⟩
  have HYs : Hid (Y.heap.size = y1.heap.size + 1) := by show _ = _; rw [← hY]; simp
  have HYe : Hid (y1.alloc (.cells #[.int .i64 s, .bool en, .slice a4 n k4] 30) = Y) := hY
  rw [hY] at HY1 HN1 HG1
  clear hb2 og4 hz hz1 hz2 c0 c1 c2 hY
  go_upto_region 4 with fail
  rw [HYe.out]
  clear HYe
  generalize y1.heap.size = nb at *
  obtain ⟨d0, d1, d2, d3⟩ := (HQ.out _ HY1.out).2.1.cells
  have HNx : Hid (Box3 Y nb 30 (.int .i64 s) (.bool en) (.slice a4 n k4)) := HN1.out
  have HQR : Hid (Box3 Y (w.heap.size + 1 + 1) 30 (.int .i64 0) (.bool false) (.slice none 0 0)) := (HQ.out _ HY1.out).2.2.1
  have HOx : Hid (Owns Y x1.heap.size a4 n k4 zs ∧ w.heap.size + 3 ≤ x1.heap.size) := ⟨HG1.out.1, HS1.out.2⟩
  have HBx : Hid (Below w.heap.size w Y) := (HQ.out _ HY1.out).2.2.2.1
  have hbi : ¬ (3000 : Int) < (n : Int) := by omega
  obtain ⟨e0, e1, e2⟩ := HNx.out.cells
  obtain ⟨g0, g1, g2⟩ := (HQR.out).cells
  have f0 := HQR.out.frozen 0
  have f1 := HQR.out.frozen 1
  have f2 := HQR.out.frozen 2
  have HF : Hid (Owns (((Y.setCell ⟨w.heap.size + 1 + 1, 0, none⟩ (.int .i64 s)).setCell ⟨w.heap.size + 1 + 1, 1, none⟩ (.bool en)).setCell ⟨w.heap.size + 1 + 1, 2, none⟩ (.slice a4 n k4)) w.heap.size a4 n k4 zs ∧ Below w.heap.size w (((Y.setCell ⟨w.heap.size + 1 + 1, 0, none⟩ (.int .i64 s)).setCell ⟨w.heap.size + 1 + 1, 1, none⟩ (.bool en)).setCell ⟨w.heap.size + 1 + 1, 2, none⟩ (.slice a4 n k4))) := by
    have hn : a4.map (·.block) ≠ some (w.heap.size + 1 + 1) := fun e => by have h3 := (HOx.out.1.lt _ e).1; have h4 := HOx.out.2; omega
    refine ⟨(owns_set (owns_set (owns_set HOx.out.1 hn) hn) hn).low (by have h4 := HOx.out.2; omega), ?_⟩
    exact ((HBx.out.setCell (p := ⟨w.heap.size + 1 + 1, 0, none⟩) (by show w.heap.size ≤ w.heap.size + 1 + 1; omega) _).setCell (p := ⟨w.heap.size + 1 + 1, 1, none⟩) (by show w.heap.size ≤ w.heap.size + 1 + 1; omega) _).setCell (p := ⟨w.heap.size + 1 + 1, 2, none⟩) (by show w.heap.size ≤ w.heap.size + 1 + 1; omega) _
  go_wp2_with fail
  refine bodyPost_ret (v := .tuple #[.agg #[.int .i64 s, .bool en, .slice a4 n k4], .nilIface]) (by simp [results, Tryd.f34, go_sem, g0, g1, g2]) rfl ?_
  exact ⟨_, _, rfl, HF.out.1, HF.out.2⟩

end Go.Proofs.YtpjldfpipchmjadDoor
