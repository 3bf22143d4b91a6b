/- What the specification answers to a frame that goes on, and to one that is no part; nothing that was there is written. -/
import Derived.Test.YtckpacifimpkgadDoorFeedNum
import Derived.Test.YtckpacifimpkgadDoorGaParts
import Derived.Test.YtckpacifimpkgadDoorGaOkS
import Derived.Test.YtckpacifimpkgadDoorFrCodeS
import Derived.Test.YtckpacifimpkgadDoorGaCopyS
import Derived.Test.YtckpacifimpkgadDoorGaSign
import Derived.Test.YtckpacifimpkgadDoorUnpS
import Derived.Test.YtckpacifimpkgadDoorFeedSB
import Derived.Test.YtckpacifimpkgadDoorSegSrc
import Derived.Deep.CutBlock
import Derived.Deep.RegionHeld3
namespace Go.Proofs.YtckpacifimpkgadDoor
open Go.RowKit
set_option linter.unusedVariables false

set_option maxRecDepth 10000 in
set_option maxHeartbeats 6400000 in
theorem feedS_big (s : Int) (en : Bool) (a : Option Addr) (n cap : Nat) (zs : List Int) (k f fs : Int) (bb bo : Nat) (m capb : Nat) (ys : List Int) (w : World) (hg : Seg w a n zs) (hf : Seg w (some ⟨bb, bo, none⟩) m ys) (hcap : m ≤ capb) (hl : n ≤ 1048576) (hm : m ≤ 1048576) (ho : ordB s en n k f fs m = true) (hk : k = 9) (hbig : 3000 < n + m) :
    Calls Tryd.prog 14 #[.agg #[.int .i64 s, .bool en, .slice a n cap], .agg #[.int .i64 k, .int .i64 f, .int .i64 fs, .slice (some ⟨bb, bo, none⟩) m capb]] w fun e w' => ∃ a' c' a2 c2, e = .returned (.tuple #[.agg #[.int .i64 s, .bool en, .slice a' n c'], .slice a2 0 c2, .int .i64 4]) ∧ Owns w' w.heap.size a' n c' zs ∧ Owns w' w.heap.size a2 0 c2 [] ∧ Parts2 a' a2 ∧ Below w.heap.size w w' := by
  have HO : Hid (ordB s en n k f fs m = true) := ho
  have hm1 := (ordB_yes ho).2.2.2
  have hn3 := (ordB_yes ho).2.2.1
  clear ho
  have hk1 : (k == 1) = false := by simp [hk]
  have hk9 : (k == 9) = true := by simp [hk]
  clear hk
  obtain ⟨i0, hi, hz0, hz1, hz2⟩ := info_parts Tryd.info5
  have HSg : Hid (Seg w a n zs) := hg
  have HSf : Hid (Seg w (some ⟨bb, bo, none⟩) m ys) := hf
  have HCp : Hid (m ≤ capb) := hcap
  obtain ⟨W4, hW4⟩ : ∃ W4, (((w.alloc (.cells #[.int .i64 s, .bool en, .slice a n cap] 30)).alloc (.cells #[.int .i64 k, .int .i64 f, .int .i64 fs, .slice (some ⟨bb, bo, none⟩) m capb] 33)).alloc (.cells #[.int .i64 0, .bool false, .slice none 0 0] 30)).alloc (.cells #[] 5) = W4 := ⟨_, rfl⟩
  have q1 : Box3 W4 w.heap.size 30 (.int .i64 s) (.bool en) (.slice a n cap) := by rw [← hW4]; exact (((Box3.new _ _ _ _ _).alloc _).alloc _).alloc _
  have q2 : Box4 W4 (w.heap.size + 1) 33 (.int .i64 k) (.int .i64 f) (.int .i64 fs) (.slice (some ⟨bb, bo, none⟩) m capb) := by
    rw [← hW4]
    have := ((Box4.new (w.alloc (.cells #[.int .i64 s, .bool en, .slice a n cap] 30)) 33 (.int .i64 k) (.int .i64 f) (.int .i64 fs) (.slice (some ⟨bb, bo, none⟩) m capb)).alloc (.cells #[.int .i64 0, .bool false, .slice none 0 0] 30)).alloc (.cells #[] 5)
    rwa [World.size_alloc] at this
  have q3 : Box3 W4 (w.heap.size + 1 + 1) 30 (.int .i64 0) (.bool false) (.slice none 0 0) := by
    rw [← hW4]
    have := (Box3.new ((w.alloc (.cells #[.int .i64 s, .bool en, .slice a n cap] 30)).alloc (.cells #[.int .i64 k, .int .i64 f, .int .i64 fs, .slice (some ⟨bb, bo, none⟩) m capb] 33)) 30 (.int .i64 0) (.bool false) (.slice none 0 0)).alloc (.cells #[] 5)
    rwa [World.size_alloc, World.size_alloc] at this
  have q4 : Owns W4 (w.heap.size + 1 + 1 + 1) (some ⟨w.heap.size + 1 + 1 + 1, 0, none⟩) 0 0 [] := by
    rw [← hW4]
    have := World.ownsRow_lit (((w.alloc (.cells #[.int .i64 s, .bool en, .slice a n cap] 30)).alloc (.cells #[.int .i64 k, .int .i64 f, .int .i64 fs, .slice (some ⟨bb, bo, none⟩) m capb] 33)).alloc (.cells #[.int .i64 0, .bool false, .slice none 0 0] 30)) (e := 5) (size := 1) #[] 0 (Nat.le_refl _) (Nat.zero_le _) rfl
    rw [World.size_alloc, World.size_alloc, World.size_alloc] at this
    exact ⟨this, by simp⟩
  have HB4 : Hid (Below w.heap.size w W4) := by show Below _ _ _; rw [← hW4]; exact ((((Below.refl _ _).alloc (Nat.le_refl _) _).alloc (by simp) _).alloc (by simp; omega) _).alloc (by simp; omega) _
  have HZ4 : Hid (W4.heap.size = w.heap.size + 4) := by show _ = _; rw [← hW4]; simp
  have HQ : Hid (∀ W, Below W4.heap.size W4 W → Box3 W w.heap.size 30 (.int .i64 s) (.bool en) (.slice a n cap) ∧ Box4 W (w.heap.size + 1) 33 (.int .i64 k) (.int .i64 f) (.int .i64 fs) (.slice (some ⟨bb, bo, none⟩) m capb) ∧ Box3 W (w.heap.size + 1 + 1) 30 (.int .i64 0) (.bool false) (.slice none 0 0) ∧ Below w.heap.size w W ∧ Seg W a n zs ∧ Seg W (some ⟨bb, bo, none⟩) m ys ∧ Owns W (w.heap.size + 1 + 1 + 1) (some ⟨w.heap.size + 1 + 1 + 1, 0, none⟩) 0 0 []) := fun W h => by
    have hw : Below w.heap.size w W := HB4.out.trans (h.mono HB4.out.size)
    exact ⟨q1.stays h, q2.stays h, q3.stays h, hw, HSg.out.below hw, HSf.out.below hw, q4.below h⟩
  have HE4 : Hid ((((w.alloc (.cells #[.int .i64 s, .bool en, .slice a n cap] 30)).alloc (.cells #[.int .i64 k, .int .i64 f, .int .i64 fs, .slice (some ⟨bb, bo, none⟩) m capb] 33)).alloc (.cells #[.int .i64 0, .bool false, .slice none 0 0] 30)).alloc (.cells #[] 5) = W4) := hW4
  clear hW4 q1 q2 q3 q4 hg hf hcap
  go_enter Tryd.func14, Tryd.ntmps14
  go_upto_region 2 with fail
  rw [HE4.out]
  obtain ⟨c0, c1, c2⟩ := (HQ.out _ (Below.refl _ _)).1.cells
  go_cut [46] from 11 (fun v46 W => v46 = .bool false ∧ Hid (Below W4.heap.size W4 W))
  case first =>
    obtain ⟨ok, hok⟩ : ∃ ok, okG s en n = ok := ⟨_, rfl⟩
    have HOk : Hid (okG s en n = ok) := hok
    have HOd : Hid (ordB s en n k f fs m = true) := HO.out
    cases ok
    · go_wp2_with fail
      refine (specGok_any s en a n cap _).mono ?_
      rintro e x1 ⟨rfl, hb1⟩
      rw [HOk.out]
      have HX1 : Hid (Below W4.heap.size W4 x1) := hb1
      have HV : Hid (false = true) := by show _ = _; first | rfl | (rw [← HOd.out, ordB, HOk.out]; rfl)
      clear hb1 c0 c1 c2
      go_wp2_with fail
      go_meet
      exact ⟨by first | rfl | (exact absurd HV.out (by decide)), HX1⟩
    · obtain ⟨cd, hcd⟩ : ∃ cd, codeF k f fs m = cd := ⟨_, rfl⟩
      have HCd : Hid (codeF k f fs m = cd) := hcd
      clear hcd hok
      go_wp2_with fail
      refine (specGok_any s en a n cap _).mono ?_
      rintro e x1 ⟨rfl, hb1⟩
      rw [HOk.out]
      have HX1 : Hid (Below W4.heap.size W4 x1) := hb1
      clear hb1 c0 c1 c2
      obtain ⟨d0, d1, d2, d3⟩ := (HQ.out _ HX1.out).2.1.cells
      go_wp2_with fail
      refine (specCode_any k f fs (some ⟨bb, bo, none⟩) m capb _).mono ?_
      rintro e x2 ⟨rfl, hb2⟩
      rw [HCd.out]
      have HX2 : Hid (Below W4.heap.size W4 x2) := HX1.out.trans (hb2.mono HX1.out.size)
      clear hb2 d0 d1 d2 d3 HX1
      obtain ⟨c0, c1, c2⟩ := (HQ.out _ HX2.out).1.cells
      obtain ⟨d0, d1, d2, d3⟩ := (HQ.out _ HX2.out).2.1.cells
      by_cases hc0 : cd = 0
      · have HV : Hid ((if s = 0 then !(k == 9) else (k == 9) && (fs == s)) = true) := by
          show _ = _
          rw [← HOd.out, ordB, HOk.out, HCd.out, hc0]
          simp only [beq_self_eq_true, Bool.and_self, Bool.true_and]
        have HS0 : Hid (s = 0 ∨ 1 ≤ s) := okG_sign HOk.out
        subst hc0
        by_cases hs0 : s = 0
        · have HVs : Hid ((!(k == 9)) = true) := by have h := HV.out; rw [if_pos hs0] at h; exact h
          have e1 : decide ((0 : Int) < s) = false := by simp; omega
          have e2 : ((0 : Int) < s) = False := by simp; omega
          have e3 : (s == 0) = true := by simp [hs0]
          clear hs0
          cases hk : (k == 9) with
          | false =>
            go_wp2_with fail
            go_meet
            exact ⟨by first | rfl | (exact absurd (hk9.symm.trans hk) (by decide)) | (exact absurd (hk2.symm.trans hk) (by decide)) | (have h := HVs.out; rw [hk] at h; exact absurd h (by simp)), HX2⟩
          | true =>
            go_wp2_with fail
            go_meet
            exact ⟨by first | rfl | (exact absurd (hk9.symm.trans hk) (by decide)) | (exact absurd (hk2.symm.trans hk) (by decide)) | (have h := HVs.out; rw [hk] at h; exact absurd h (by simp)), HX2⟩
        · have HVs : Hid (((k == 9) && (fs == s)) = true) := by have h := HV.out; rw [if_neg hs0] at h; exact h
          have hs1 : 0 < s := by rcases HS0.out with h | h <;> omega
          have e1 : decide ((0 : Int) < s) = true := by simpa using hs1
          have e3 : (s == 0) = false := by simpa using hs0
          cases hk : (k == 9) with
          | false =>
            have e4 : (k != 9) = true := by simp [bne, hk]
            go_wp2_with fail
            go_meet
            exact ⟨by first | rfl | (exact absurd (hk9.symm.trans hk) (by decide)) | (exact absurd (hk2.symm.trans hk) (by decide)) | (have h := HVs.out; rw [hk] at h; exact absurd h (by simp)), HX2⟩
          | true =>
            have e4 : (k != 9) = false := by simp [bne, hk]
            cases hfs : (fs == s) with
            | false =>
              have e5 : (fs != s) = true := by simp [bne, hfs]
              go_wp2_with fail
              go_meet
              exact ⟨by first | rfl | (exact absurd (hk2.symm.trans hk) (by decide)) | (have h := HVs.out; rw [hk, hfs] at h; exact absurd h (by simp)), HX2⟩
            | true =>
              have e5 : (fs != s) = false := by simp [bne, hfs]
              go_wp2_with fail
              go_meet
              exact ⟨by first | rfl | (exact absurd (hk2.symm.trans hk) (by decide)) | (have h := HVs.out; rw [hk, hfs] at h; exact absurd h (by simp)), HX2⟩
      · have hne : (cd != 0) = true := by simpa using hc0
        have HV : Hid (false = true) := by
          have hcc : (cd == 0) = false := by simpa using hc0
          show _ = _
          first | rfl | (rw [← HOd.out, ordB, HOk.out, HCd.out, hcc]; rfl)
        go_wp2_with fail
        go_meet
        exact ⟨by first | rfl | (exact absurd HV.out (by decide)), HX2⟩
  case rest =>
  obtain ⟨rfl, HX1⟩ := hcut
  obtain ⟨x1, hx1⟩ : ∃ x1, wc = x1 := ⟨_, rfl⟩
  rw [hx1] at HX1 ⊢
  clear hx1 c0 c1 c2 HE4
  obtain ⟨c0, c1, c2⟩ := (HQ.out _ HX1.out).1.cells
  go_wp2_with fail
  refine (copyGaS_any s en a n cap zs _ (HQ.out _ HX1.out).2.2.2.2.1 hl).mono ?_
  rintro e y1 ⟨a4, k4, rfl, og4, hb2⟩
  have hz := HZ4.out
  have hz1 := HX1.out.size
  have hz2 := hb2.size
  have HY1 : Hid (Below W4.heap.size W4 (y1.alloc (.cells #[.int .i64 s, .bool en, .slice a4 n k4] 30))) := (HX1.out.trans (hb2.mono HX1.out.size)).alloc (by omega) _
  have HN1 : Hid (Box3 (y1.alloc (.cells #[.int .i64 s, .bool en, .slice a4 n k4] 30)) y1.heap.size 30 (.int .i64 s) (.bool en) (.slice a4 n k4)) := Box3.new _ _ _ _ _
  have HG1 : Hid (Owns (y1.alloc (.cells #[.int .i64 s, .bool en, .slice a4 n k4] 30)) x1.heap.size a4 n k4 zs ∧ ∀ q, a4.map (·.block) = some q → q < y1.heap.size) := ⟨og4.below ((Below.refl _ _).alloc (Nat.le_refl _) _), fun q hq => (og4.lt q hq).2⟩
  have HS1 : Hid (x1.heap.size ≤ y1.heap.size ∧ w.heap.size + 4 ≤ x1.heap.size) := ⟨hz2, by omega⟩
  obtain ⟨Y, hY⟩ : ∃ Y, y1.alloc (.cells #[.int .i64 s, .bool en, .slice a4 n k4] 30) = Y := ⟨_, rfl⟩
  have HYs : Hid (Y.heap.size = y1.heap.size + 1) := by show _ = _; rw [← hY]; simp
  have HYe : Hid (y1.alloc (.cells #[.int .i64 s, .bool en, .slice a4 n k4] 30) = Y) := hY
  rw [hY] at HY1 HN1 HG1
  clear hb2 og4 hz hz1 hz2 c0 c1 c2 hY
  go_upto_region 5 with fail
  rw [HYe.out]
  clear HYe
  generalize y1.heap.size = nb at *
  obtain ⟨d0, d1, d2, d3⟩ := (HQ.out _ HY1.out).2.1.cells
  have h1 := HS1.out
  have h2 := HYs.out
  obtain ⟨e0, e1, e2⟩ := HN1.out.cells
  have HSY : Hid (Seg Y (some ⟨bb, bo, none⟩) m ys) := (HQ.out _ HY1.out).2.2.2.2.2.1
  have HA : Hid (Y.ownsRow x1.heap.size 5 1 (.slice a4 n k4) n (zs.map (Value.int .u8))) := HG1.out.1.1
  have hyl : ys.length = m := HSY.out.1
  have hxs : x1.heap.size ≤ Y.heap.size := by omega
  go_wp2_with (at_builtin; refine wpList_append_own _ rfl _ _ 22 rfl x1.heap.size 5 i0 (.int .u8 0) 1 1 Tryd.underlying22 hi hz0 hz1 hz2 rfl (by decide) (.slice a4 n k4) n (zs.map (Value.int .u8)) rfl HA.out ⟨bb, bo, none⟩ m capb (ys.map (Value.int .u8)) rfl (by simp [hyl]) (seg_src HSY.out _ rfl) (ints_one ys) (by unfold maxLen; omega) (by omega) hxs ?_; intro v5 Z5 hown5 hgrow5 _; refine Hid.out ?_)
  refine hidden ?_
  obtain ⟨a5, k5, rfl⟩ := shape_of_owns hown5
  rw [ownBlock_of] at hgrow5
  have hlo : ∀ q, a4.map (·.block) = some q → x1.heap.size ≤ q ∧ q < nb := fun q hq => ⟨(HG1.out.1.lt q hq).1, HG1.out.2 q hq⟩
  have HO5 : Hid (Owns Z5 x1.heap.size a5 (n + m) k5 (zs ++ ys)) := ⟨by rw [List.map_append]; exact hown5, fun x hx => by
    rcases List.mem_append.1 hx with hx | hx
    · exact HG1.out.1.2 x hx
    · exact HSY.out.2.1 x hx⟩
  have HN5 : Hid (Box3 Z5 nb 30 (.int .i64 s) (.bool en) (.slice a4 n k4)) := HN1.out.grown hgrow5 (fun e => by have := hlo nb e; omega)
  have HX5 : Hid (Below W4.heap.size W4 Z5) := HY1.out.grown hgrow5 HY1.out.size (fun q e => by have h3 := (hlo q e).1; have h4 := HX1.out.size; omega)
  have HT5 : Hid (∀ q, a5.map (·.block) = some q → q ≠ nb ∧ x1.heap.size ≤ q) := fun q hq => ⟨fun e => by
    subst e
    exact HO5.out.other (show Z5.heap[q]? = _ from HN5.out) (by decide) hq, (HO5.out.lt q hq).1⟩
  obtain ⟨L, hL⟩ : ∃ L, n + m = L := ⟨_, rfl⟩
  have HLe : Hid (n + m = L) := hL
  rw [hL] at HO5 ⊢
  clear hown5 hgrow5 hlo e0 e1 e2 HA HSY hyl d0 d1 d2 d3
  obtain ⟨e0, e1, e2⟩ := HN5.out.cells
  have f2 := HN5.out.frozen 2
  obtain ⟨Z, hZ⟩ : ∃ Z, Z5.setCell ⟨nb, 2, none⟩ (.slice a5 L k5) = Z := ⟨_, rfl⟩
  have HZe : Hid (Z5.setCell ⟨nb, 2, none⟩ (.slice a5 L k5) = Z) := hZ
  have HNx : Hid (Box3 Z nb 30 (.int .i64 s) (.bool en) (.slice a5 L k5)) := by
    show Box3 _ _ _ _ _ _
    rw [← hZ]
    exact box3_set2 HN5.out _
  have HX6 : Hid (Below W4.heap.size W4 Z) := by
    show Below _ _ _
    rw [← hZ]
    exact HX5.out.setCell (p := ⟨nb, 2, none⟩) (by show W4.heap.size ≤ nb; have := HX1.out.size; omega) _
  have HOx : Hid (Owns Z x1.heap.size a5 L k5 (zs ++ ys) ∧ w.heap.size + 4 ≤ x1.heap.size) := by
    refine ⟨?_, by omega⟩
    rw [← hZ]
    exact owns_set HO5.out (fun e => (HT5.out nb e).1 rfl)
  have HNb : Hid (w.heap.size + 4 ≤ nb) := by show _ ≤ _; omega
  clear hZ HO5 HT5 HX5 h1 h2 hxs hL
  go_upto_region 14 with fail
  rw [HZe.out]
  clear HZe e0 e1 e2 f2
  obtain ⟨d0, d1, d2, d3⟩ := (HQ.out _ HX6.out).2.1.cells
  obtain ⟨e0, e1, e2⟩ := HNx.out.cells
  have hbi : (3000 : Int) < (L : Int) := by have := HLe.out; omega
  obtain ⟨c0, c1, c2⟩ := (HQ.out _ HX6.out).1.cells
  go_wp2_with fail
  refine (copyGaS_any s en a n cap zs _ (HQ.out _ HX6.out).2.2.2.2.1 hl).mono ?_
  rintro e y9 ⟨a9, k9, rfl, og9, hb9⟩
  have HX9 : Hid (Below W4.heap.size W4 y9) := HX6.out.trans (hb9.mono HX6.out.size)
  have HO9 : Hid (Owns y9 Z.heap.size a9 n k9 zs ∧ w.heap.size + 4 ≤ Z.heap.size) := ⟨og9, by have h1 := HX6.out.size; have h2 := HZ4.out; omega⟩
  clear og9 hb9
  obtain ⟨g0, g1, g2⟩ := (HQ.out _ HX9.out).2.2.1.cells
  have f0 := (HQ.out _ HX9.out).2.2.1.frozen 0
  have f1 := (HQ.out _ HX9.out).2.2.1.frozen 1
  have f2 := (HQ.out _ HX9.out).2.2.1.frozen 2
  have HF : Hid (Owns (((y9.setCell ⟨w.heap.size + 1 + 1, 0, none⟩ (.int .i64 s)).setCell ⟨w.heap.size + 1 + 1, 1, none⟩ (.bool en)).setCell ⟨w.heap.size + 1 + 1, 2, none⟩ (.slice a9 n k9)) w.heap.size a9 n k9 zs ∧ Owns (((y9.setCell ⟨w.heap.size + 1 + 1, 0, none⟩ (.int .i64 s)).setCell ⟨w.heap.size + 1 + 1, 1, none⟩ (.bool en)).setCell ⟨w.heap.size + 1 + 1, 2, none⟩ (.slice a9 n k9)) w.heap.size (some ⟨w.heap.size + 1 + 1 + 1, 0, none⟩) 0 0 [] ∧ Parts2 a9 (some ⟨w.heap.size + 1 + 1 + 1, 0, none⟩) ∧ Below w.heap.size w (((y9.setCell ⟨w.heap.size + 1 + 1, 0, none⟩ (.int .i64 s)).setCell ⟨w.heap.size + 1 + 1, 1, none⟩ (.bool en)).setCell ⟨w.heap.size + 1 + 1, 2, none⟩ (.slice a9 n k9))) := by
    obtain ⟨ho, hbase⟩ := HO9.out
    have hn : a9.map (·.block) ≠ some (w.heap.size + 1 + 1) := fun e => by have h3 := (ho.lt _ e).1; omega
    have hn0 : (some (⟨w.heap.size + 1 + 1 + 1, 0, none⟩ : Addr)).map (·.block) ≠ some (w.heap.size + 1 + 1) := fun e => by (injection e with e; have e' : w.heap.size + 1 + 1 + 1 = w.heap.size + 1 + 1 := e; omega)
    have hyb := (HQ.out _ HX9.out).2.2.2.1
    refine ⟨(owns_set (owns_set (owns_set ho hn) hn) hn).low (by omega), (owns_set (owns_set (owns_set (HQ.out _ HX9.out).2.2.2.2.2.2 hn0) hn0) hn0).low (by omega), fun q hq e => ?_, ((hyb.setCell (p := ⟨w.heap.size + 1 + 1, 0, none⟩) (by show w.heap.size ≤ w.heap.size + 1 + 1; omega) _).setCell (p := ⟨w.heap.size + 1 + 1, 1, none⟩) (by show w.heap.size ≤ w.heap.size + 1 + 1; omega) _).setCell (p := ⟨w.heap.size + 1 + 1, 2, none⟩) (by show w.heap.size ≤ w.heap.size + 1 + 1; omega) _⟩
    have h3 := (ho.lt q hq).1
    have e' : w.heap.size + 1 + 1 + 1 = q := by injection e
    omega
  go_wp2_with fail
  refine bodyPost_ret (v := .tuple #[.agg #[.int .i64 s, .bool en, .slice a9 n k9], .slice (some ⟨w.heap.size + 1 + 1 + 1, 0, none⟩) 0 0, .int .i64 4]) (by simp [results, Tryd.f14, go_sem, g0, g1, g2]) rfl ?_
  exact ⟨_, _, _, _, rfl, HF.out.1, HF.out.2.1, HF.out.2.2.1, HF.out.2.2.2⟩

set_option maxRecDepth 10000 in
set_option maxHeartbeats 6400000 in
theorem feedS_more (s : Int) (en : Bool) (a : Option Addr) (n cap : Nat) (zs : List Int) (k f fs : Int) (bb bo : Nat) (m capb : Nat) (ys : List Int) (w : World) (hg : Seg w a n zs) (hf : Seg w (some ⟨bb, bo, none⟩) m ys) (hcap : m ≤ capb) (hl : n ≤ 1048576) (hm : m ≤ 1048576) (L : Nat) (ho : ordB s en n k f fs m = true) (hk : k = 9) (hbig : ¬ 3000 < n + m) (hLL : n + m = L) (h4 : (bits .and .i64 f 4 != 0) = false) :
    Calls Tryd.prog 14 #[.agg #[.int .i64 s, .bool en, .slice a n cap], .agg #[.int .i64 k, .int .i64 f, .int .i64 fs, .slice (some ⟨bb, bo, none⟩) m capb]] w fun e w' => ∃ a' c' a2 c2, e = .returned (.tuple #[.agg #[.int .i64 s, .bool en, .slice a' L c'], .slice a2 0 c2, .int .i64 0]) ∧ Owns w' w.heap.size a' L c' (zs ++ ys) ∧ Owns w' w.heap.size a2 0 c2 [] ∧ Parts2 a' a2 ∧ Below w.heap.size w w' := by
  have HO : Hid (ordB s en n k f fs m = true) := ho
  have hm1 := (ordB_yes ho).2.2.2
  have hn3 := (ordB_yes ho).2.2.1
  clear ho
  have hk1 : (k == 1) = false := by simp [hk]
  have hk9 : (k == 9) = true := by simp [hk]
  clear hk
  have HLL : Hid (n + m = L) := hLL
  clear hLL
  obtain ⟨i0, hi, hz0, hz1, hz2⟩ := info_parts Tryd.info5
  have HSg : Hid (Seg w a n zs) := hg
  have HSf : Hid (Seg w (some ⟨bb, bo, none⟩) m ys) := hf
  have HCp : Hid (m ≤ capb) := hcap
  obtain ⟨W4, hW4⟩ : ∃ W4, (((w.alloc (.cells #[.int .i64 s, .bool en, .slice a n cap] 30)).alloc (.cells #[.int .i64 k, .int .i64 f, .int .i64 fs, .slice (some ⟨bb, bo, none⟩) m capb] 33)).alloc (.cells #[.int .i64 0, .bool false, .slice none 0 0] 30)).alloc (.cells #[] 5) = W4 := ⟨_, rfl⟩
  have q1 : Box3 W4 w.heap.size 30 (.int .i64 s) (.bool en) (.slice a n cap) := by rw [← hW4]; exact (((Box3.new _ _ _ _ _).alloc _).alloc _).alloc _
  have q2 : Box4 W4 (w.heap.size + 1) 33 (.int .i64 k) (.int .i64 f) (.int .i64 fs) (.slice (some ⟨bb, bo, none⟩) m capb) := by
    rw [← hW4]
    have := ((Box4.new (w.alloc (.cells #[.int .i64 s, .bool en, .slice a n cap] 30)) 33 (.int .i64 k) (.int .i64 f) (.int .i64 fs) (.slice (some ⟨bb, bo, none⟩) m capb)).alloc (.cells #[.int .i64 0, .bool false, .slice none 0 0] 30)).alloc (.cells #[] 5)
    rwa [World.size_alloc] at this
  have q3 : Box3 W4 (w.heap.size + 1 + 1) 30 (.int .i64 0) (.bool false) (.slice none 0 0) := by
    rw [← hW4]
    have := (Box3.new ((w.alloc (.cells #[.int .i64 s, .bool en, .slice a n cap] 30)).alloc (.cells #[.int .i64 k, .int .i64 f, .int .i64 fs, .slice (some ⟨bb, bo, none⟩) m capb] 33)) 30 (.int .i64 0) (.bool false) (.slice none 0 0)).alloc (.cells #[] 5)
    rwa [World.size_alloc, World.size_alloc] at this
  have q4 : Owns W4 (w.heap.size + 1 + 1 + 1) (some ⟨w.heap.size + 1 + 1 + 1, 0, none⟩) 0 0 [] := by
    rw [← hW4]
    have := World.ownsRow_lit (((w.alloc (.cells #[.int .i64 s, .bool en, .slice a n cap] 30)).alloc (.cells #[.int .i64 k, .int .i64 f, .int .i64 fs, .slice (some ⟨bb, bo, none⟩) m capb] 33)).alloc (.cells #[.int .i64 0, .bool false, .slice none 0 0] 30)) (e := 5) (size := 1) #[] 0 (Nat.le_refl _) (Nat.zero_le _) rfl
    rw [World.size_alloc, World.size_alloc, World.size_alloc] at this
    exact ⟨this, by simp⟩
  have HB4 : Hid (Below w.heap.size w W4) := by show Below _ _ _; rw [← hW4]; exact ((((Below.refl _ _).alloc (Nat.le_refl _) _).alloc (by simp) _).alloc (by simp; omega) _).alloc (by simp; omega) _
  have HZ4 : Hid (W4.heap.size = w.heap.size + 4) := by show _ = _; rw [← hW4]; simp
  have HQ : Hid (∀ W, Below W4.heap.size W4 W → Box3 W w.heap.size 30 (.int .i64 s) (.bool en) (.slice a n cap) ∧ Box4 W (w.heap.size + 1) 33 (.int .i64 k) (.int .i64 f) (.int .i64 fs) (.slice (some ⟨bb, bo, none⟩) m capb) ∧ Box3 W (w.heap.size + 1 + 1) 30 (.int .i64 0) (.bool false) (.slice none 0 0) ∧ Below w.heap.size w W ∧ Seg W a n zs ∧ Seg W (some ⟨bb, bo, none⟩) m ys ∧ Owns W (w.heap.size + 1 + 1 + 1) (some ⟨w.heap.size + 1 + 1 + 1, 0, none⟩) 0 0 []) := fun W h => by
    have hw : Below w.heap.size w W := HB4.out.trans (h.mono HB4.out.size)
    exact ⟨q1.stays h, q2.stays h, q3.stays h, hw, HSg.out.below hw, HSf.out.below hw, q4.below h⟩
  have HE4 : Hid ((((w.alloc (.cells #[.int .i64 s, .bool en, .slice a n cap] 30)).alloc (.cells #[.int .i64 k, .int .i64 f, .int .i64 fs, .slice (some ⟨bb, bo, none⟩) m capb] 33)).alloc (.cells #[.int .i64 0, .bool false, .slice none 0 0] 30)).alloc (.cells #[] 5) = W4) := hW4
  clear hW4 q1 q2 q3 q4 hg hf hcap
  go_enter Tryd.func14, Tryd.ntmps14
  go_upto_region 2 with fail
  rw [HE4.out]
  obtain ⟨c0, c1, c2⟩ := (HQ.out _ (Below.refl _ _)).1.cells
  go_cut [46] from 11 (fun v46 W => v46 = .bool false ∧ Hid (Below W4.heap.size W4 W))
  case first =>
    obtain ⟨ok, hok⟩ : ∃ ok, okG s en n = ok := ⟨_, rfl⟩
    have HOk : Hid (okG s en n = ok) := hok
    have HOd : Hid (ordB s en n k f fs m = true) := HO.out
    cases ok
    · go_wp2_with fail
      refine (specGok_any s en a n cap _).mono ?_
      rintro e x1 ⟨rfl, hb1⟩
      rw [HOk.out]
      have HX1 : Hid (Below W4.heap.size W4 x1) := hb1
      have HV : Hid (false = true) := by show _ = _; first | rfl | (rw [← HOd.out, ordB, HOk.out]; rfl)
      clear hb1 c0 c1 c2
      go_wp2_with fail
      go_meet
      exact ⟨by first | rfl | (exact absurd HV.out (by decide)), HX1⟩
    · obtain ⟨cd, hcd⟩ : ∃ cd, codeF k f fs m = cd := ⟨_, rfl⟩
      have HCd : Hid (codeF k f fs m = cd) := hcd
      clear hcd hok
      go_wp2_with fail
      refine (specGok_any s en a n cap _).mono ?_
      rintro e x1 ⟨rfl, hb1⟩
      rw [HOk.out]
      have HX1 : Hid (Below W4.heap.size W4 x1) := hb1
      clear hb1 c0 c1 c2
      obtain ⟨d0, d1, d2, d3⟩ := (HQ.out _ HX1.out).2.1.cells
      go_wp2_with fail
      refine (specCode_any k f fs (some ⟨bb, bo, none⟩) m capb _).mono ?_
      rintro e x2 ⟨rfl, hb2⟩
      rw [HCd.out]
      have HX2 : Hid (Below W4.heap.size W4 x2) := HX1.out.trans (hb2.mono HX1.out.size)
      clear hb2 d0 d1 d2 d3 HX1
      obtain ⟨c0, c1, c2⟩ := (HQ.out _ HX2.out).1.cells
      obtain ⟨d0, d1, d2, d3⟩ := (HQ.out _ HX2.out).2.1.cells
      by_cases hc0 : cd = 0
      · have HV : Hid ((if s = 0 then !(k == 9) else (k == 9) && (fs == s)) = true) := by
          show _ = _
          rw [← HOd.out, ordB, HOk.out, HCd.out, hc0]
          simp only [beq_self_eq_true, Bool.and_self, Bool.true_and]
        have HS0 : Hid (s = 0 ∨ 1 ≤ s) := okG_sign HOk.out
        subst hc0
        by_cases hs0 : s = 0
        · have HVs : Hid ((!(k == 9)) = true) := by have h := HV.out; rw [if_pos hs0] at h; exact h
          have e1 : decide ((0 : Int) < s) = false := by simp; omega
          have e2 : ((0 : Int) < s) = False := by simp; omega
          have e3 : (s == 0) = true := by simp [hs0]
          clear hs0
          cases hk : (k == 9) with
          | false =>
            go_wp2_with fail
            go_meet
            exact ⟨by first | rfl | (exact absurd (hk9.symm.trans hk) (by decide)) | (exact absurd (hk2.symm.trans hk) (by decide)) | (have h := HVs.out; rw [hk] at h; exact absurd h (by simp)), HX2⟩
          | true =>
            go_wp2_with fail
            go_meet
            exact ⟨by first | rfl | (exact absurd (hk9.symm.trans hk) (by decide)) | (exact absurd (hk2.symm.trans hk) (by decide)) | (have h := HVs.out; rw [hk] at h; exact absurd h (by simp)), HX2⟩
        · have HVs : Hid (((k == 9) && (fs == s)) = true) := by have h := HV.out; rw [if_neg hs0] at h; exact h
          have hs1 : 0 < s := by rcases HS0.out with h | h <;> omega
          have e1 : decide ((0 : Int) < s) = true := by simpa using hs1
          have e3 : (s == 0) = false := by simpa using hs0
          cases hk : (k == 9) with
          | false =>
            have e4 : (k != 9) = true := by simp [bne, hk]
            go_wp2_with fail
            go_meet
            exact ⟨by first | rfl | (exact absurd (hk9.symm.trans hk) (by decide)) | (exact absurd (hk2.symm.trans hk) (by decide)) | (have h := HVs.out; rw [hk] at h; exact absurd h (by simp)), HX2⟩
          | true =>
            have e4 : (k != 9) = false := by simp [bne, hk]
            cases hfs : (fs == s) with
            | false =>
              have e5 : (fs != s) = true := by simp [bne, hfs]
              go_wp2_with fail
              go_meet
              exact ⟨by first | rfl | (exact absurd (hk2.symm.trans hk) (by decide)) | (have h := HVs.out; rw [hk, hfs] at h; exact absurd h (by simp)), HX2⟩
            | true =>
              have e5 : (fs != s) = false := by simp [bne, hfs]
              go_wp2_with fail
              go_meet
              exact ⟨by first | rfl | (exact absurd (hk2.symm.trans hk) (by decide)) | (have h := HVs.out; rw [hk, hfs] at h; exact absurd h (by simp)), HX2⟩
      · have hne : (cd != 0) = true := by simpa using hc0
        have HV : Hid (false = true) := by
          have hcc : (cd == 0) = false := by simpa using hc0
          show _ = _
          first | rfl | (rw [← HOd.out, ordB, HOk.out, HCd.out, hcc]; rfl)
        go_wp2_with fail
        go_meet
        exact ⟨by first | rfl | (exact absurd HV.out (by decide)), HX2⟩
  case rest =>
  obtain ⟨rfl, HX1⟩ := hcut
  obtain ⟨x1, hx1⟩ : ∃ x1, wc = x1 := ⟨_, rfl⟩
  rw [hx1] at HX1 ⊢
  clear hx1 c0 c1 c2 HE4
  obtain ⟨c0, c1, c2⟩ := (HQ.out _ HX1.out).1.cells
  go_wp2_with fail
  refine (copyGaS_any s en a n cap zs _ (HQ.out _ HX1.out).2.2.2.2.1 hl).mono ?_
  rintro e y1 ⟨a4, k4, rfl, og4, hb2⟩
  have hz := HZ4.out
  have hz1 := HX1.out.size
  have hz2 := hb2.size
  have HY1 : Hid (Below W4.heap.size W4 (y1.alloc (.cells #[.int .i64 s, .bool en, .slice a4 n k4] 30))) := (HX1.out.trans (hb2.mono HX1.out.size)).alloc (by omega) _
  have HN1 : Hid (Box3 (y1.alloc (.cells #[.int .i64 s, .bool en, .slice a4 n k4] 30)) y1.heap.size 30 (.int .i64 s) (.bool en) (.slice a4 n k4)) := Box3.new _ _ _ _ _
  have HG1 : Hid (Owns (y1.alloc (.cells #[.int .i64 s, .bool en, .slice a4 n k4] 30)) x1.heap.size a4 n k4 zs ∧ ∀ q, a4.map (·.block) = some q → q < y1.heap.size) := ⟨og4.below ((Below.refl _ _).alloc (Nat.le_refl _) _), fun q hq => (og4.lt q hq).2⟩
  have HS1 : Hid (x1.heap.size ≤ y1.heap.size ∧ w.heap.size + 4 ≤ x1.heap.size) := ⟨hz2, by omega⟩
  obtain ⟨Y, hY⟩ : ∃ Y, y1.alloc (.cells #[.int .i64 s, .bool en, .slice a4 n k4] 30) = Y := ⟨_, rfl⟩
  have HYs : Hid (Y.heap.size = y1.heap.size + 1) := by show _ = _; rw [← hY]; simp
  have HYe : Hid (y1.alloc (.cells #[.int .i64 s, .bool en, .slice a4 n k4] 30) = Y) := hY
  rw [hY] at HY1 HN1 HG1
  clear hb2 og4 hz hz1 hz2 c0 c1 c2 hY
  go_upto_region 5 with fail
  rw [HYe.out]
  clear HYe
  generalize y1.heap.size = nb at *
  obtain ⟨d0, d1, d2, d3⟩ := (HQ.out _ HY1.out).2.1.cells
  have h1 := HS1.out
  have h2 := HYs.out
  obtain ⟨e0, e1, e2⟩ := HN1.out.cells
  have HSY : Hid (Seg Y (some ⟨bb, bo, none⟩) m ys) := (HQ.out _ HY1.out).2.2.2.2.2.1
  have HA : Hid (Y.ownsRow x1.heap.size 5 1 (.slice a4 n k4) n (zs.map (Value.int .u8))) := HG1.out.1.1
  have hyl : ys.length = m := HSY.out.1
  have hxs : x1.heap.size ≤ Y.heap.size := by omega
  go_wp2_with (at_builtin; refine wpList_append_own _ rfl _ _ 22 rfl x1.heap.size 5 i0 (.int .u8 0) 1 1 Tryd.underlying22 hi hz0 hz1 hz2 rfl (by decide) (.slice a4 n k4) n (zs.map (Value.int .u8)) rfl HA.out ⟨bb, bo, none⟩ m capb (ys.map (Value.int .u8)) rfl (by simp [hyl]) (seg_src HSY.out _ rfl) (ints_one ys) (by unfold maxLen; omega) (by omega) hxs ?_; intro v5 Z5 hown5 hgrow5 _; refine Hid.out ?_)
  refine hidden ?_
  obtain ⟨a5, k5, rfl⟩ := shape_of_owns hown5
  rw [ownBlock_of] at hgrow5
  have hlo : ∀ q, a4.map (·.block) = some q → x1.heap.size ≤ q ∧ q < nb := fun q hq => ⟨(HG1.out.1.lt q hq).1, HG1.out.2 q hq⟩
  have HO5 : Hid (Owns Z5 x1.heap.size a5 (n + m) k5 (zs ++ ys)) := ⟨by rw [List.map_append]; exact hown5, fun x hx => by
    rcases List.mem_append.1 hx with hx | hx
    · exact HG1.out.1.2 x hx
    · exact HSY.out.2.1 x hx⟩
  have HN5 : Hid (Box3 Z5 nb 30 (.int .i64 s) (.bool en) (.slice a4 n k4)) := HN1.out.grown hgrow5 (fun e => by have := hlo nb e; omega)
  have HX5 : Hid (Below W4.heap.size W4 Z5) := HY1.out.grown hgrow5 HY1.out.size (fun q e => by have h3 := (hlo q e).1; have h4 := HX1.out.size; omega)
  have HT5 : Hid (∀ q, a5.map (·.block) = some q → q ≠ nb ∧ x1.heap.size ≤ q) := fun q hq => ⟨fun e => by
    subst e
    exact HO5.out.other (show Z5.heap[q]? = _ from HN5.out) (by decide) hq, (HO5.out.lt q hq).1⟩
  have hL := HLL.out
  have HLe : Hid (n + m = L) := hL
  rw [hL] at HO5 ⊢
  clear hown5 hgrow5 hlo e0 e1 e2 HA HSY hyl d0 d1 d2 d3
  obtain ⟨e0, e1, e2⟩ := HN5.out.cells
  have f2 := HN5.out.frozen 2
  obtain ⟨Z, hZ⟩ : ∃ Z, Z5.setCell ⟨nb, 2, none⟩ (.slice a5 L k5) = Z := ⟨_, rfl⟩
  have HZe : Hid (Z5.setCell ⟨nb, 2, none⟩ (.slice a5 L k5) = Z) := hZ
  have HNx : Hid (Box3 Z nb 30 (.int .i64 s) (.bool en) (.slice a5 L k5)) := by
    show Box3 _ _ _ _ _ _
    rw [← hZ]
    exact box3_set2 HN5.out _
  have HX6 : Hid (Below W4.heap.size W4 Z) := by
    show Below _ _ _
    rw [← hZ]
    exact HX5.out.setCell (p := ⟨nb, 2, none⟩) (by show W4.heap.size ≤ nb; have := HX1.out.size; omega) _
  have HOx : Hid (Owns Z x1.heap.size a5 L k5 (zs ++ ys) ∧ w.heap.size + 4 ≤ x1.heap.size) := by
    refine ⟨?_, by omega⟩
    rw [← hZ]
    exact owns_set HO5.out (fun e => (HT5.out nb e).1 rfl)
  have HNb : Hid (w.heap.size + 4 ≤ nb) := by show _ ≤ _; omega
  clear hZ HO5 HT5 HX5 h1 h2 hxs hL
  go_upto_region 14 with fail
  rw [HZe.out]
  clear HZe e0 e1 e2 f2
  obtain ⟨d0, d1, d2, d3⟩ := (HQ.out _ HX6.out).2.1.cells
  obtain ⟨e0, e1, e2⟩ := HNx.out.cells
  have hbi : ¬ (3000 : Int) < (L : Int) := by have := HLe.out; omega
  obtain ⟨g0, g1, g2⟩ := (HQ.out _ HX6.out).2.2.1.cells
  have f0 := (HQ.out _ HX6.out).2.2.1.frozen 0
  have f1 := (HQ.out _ HX6.out).2.2.1.frozen 1
  have f2 := (HQ.out _ HX6.out).2.2.1.frozen 2
  have HF : Hid (Owns (((Z.setCell ⟨w.heap.size + 1 + 1, 0, none⟩ (.int .i64 s)).setCell ⟨w.heap.size + 1 + 1, 1, none⟩ (.bool en)).setCell ⟨w.heap.size + 1 + 1, 2, none⟩ (.slice a5 L k5)) w.heap.size a5 L k5 (zs ++ ys) ∧ Owns (((Z.setCell ⟨w.heap.size + 1 + 1, 0, none⟩ (.int .i64 s)).setCell ⟨w.heap.size + 1 + 1, 1, none⟩ (.bool en)).setCell ⟨w.heap.size + 1 + 1, 2, none⟩ (.slice a5 L k5)) w.heap.size (some ⟨w.heap.size + 1 + 1 + 1, 0, none⟩) 0 0 [] ∧ Parts2 a5 (some ⟨w.heap.size + 1 + 1 + 1, 0, none⟩) ∧ Below w.heap.size w (((Z.setCell ⟨w.heap.size + 1 + 1, 0, none⟩ (.int .i64 s)).setCell ⟨w.heap.size + 1 + 1, 1, none⟩ (.bool en)).setCell ⟨w.heap.size + 1 + 1, 2, none⟩ (.slice a5 L k5))) := by
    obtain ⟨ho, hbase⟩ := HOx.out
    have hn : a5.map (·.block) ≠ some (w.heap.size + 1 + 1) := fun e => by have h3 := (ho.lt _ e).1; omega
    have hn0 : (some (⟨w.heap.size + 1 + 1 + 1, 0, none⟩ : Addr)).map (·.block) ≠ some (w.heap.size + 1 + 1) := fun e => by (injection e with e; have e' : w.heap.size + 1 + 1 + 1 = w.heap.size + 1 + 1 := e; omega)
    have hyb := (HQ.out _ HX6.out).2.2.2.1
    refine ⟨(owns_set (owns_set (owns_set ho hn) hn) hn).low (by omega), (owns_set (owns_set (owns_set (HQ.out _ HX6.out).2.2.2.2.2.2 hn0) hn0) hn0).low (by omega), fun q hq e => ?_, ((hyb.setCell (p := ⟨w.heap.size + 1 + 1, 0, none⟩) (by show w.heap.size ≤ w.heap.size + 1 + 1; omega) _).setCell (p := ⟨w.heap.size + 1 + 1, 1, none⟩) (by show w.heap.size ≤ w.heap.size + 1 + 1; omega) _).setCell (p := ⟨w.heap.size + 1 + 1, 2, none⟩) (by show w.heap.size ≤ w.heap.size + 1 + 1; omega) _⟩
    have h3 := (ho.lt q hq).1
    have e' : w.heap.size + 1 + 1 + 1 = q := by injection e
    omega
  go_wp2_with fail
  refine bodyPost_ret (v := .tuple #[.agg #[.int .i64 s, .bool en, .slice a5 L k5], .slice (some ⟨w.heap.size + 1 + 1 + 1, 0, none⟩) 0 0, .int .i64 0]) (by simp [results, Tryd.f14, go_sem, g0, g1, g2]) rfl ?_
  exact ⟨_, _, _, _, rfl, HF.out.1, HF.out.2.1, HF.out.2.2.1, HF.out.2.2.2⟩

set_option maxRecDepth 10000 in
set_option maxHeartbeats 6400000 in
theorem feedS_moreDone (s : Int) (en : Bool) (a : Option Addr) (n cap : Nat) (zs : List Int) (k f fs : Int) (bb bo : Nat) (m capb : Nat) (ys : List Int) (w : World) (hg : Seg w a n zs) (hf : Seg w (some ⟨bb, bo, none⟩) m ys) (hcap : m ≤ capb) (hl : n ≤ 1048576) (hm : m ≤ 1048576) (L : Nat) (ho : ordB s en n k f fs m = true) (hk : k = 9) (hbig : ¬ 3000 < n + m) (hLL : n + m = L) (h4 : (bits .and .i64 f 4 != 0) = true) :
    Calls Tryd.prog 14 #[.agg #[.int .i64 s, .bool en, .slice a n cap], .agg #[.int .i64 k, .int .i64 f, .int .i64 fs, .slice (some ⟨bb, bo, none⟩) m capb]] w fun e w' => ∃ c2 a2, e = .returned (.tuple #[.agg #[.int .i64 0, .bool false, .slice none 0 0], .slice a2 L c2, .int .i64 1]) ∧ Owns w' w.heap.size a2 L c2 (zs ++ ys) ∧ Below w.heap.size w w' := by
  have HO : Hid (ordB s en n k f fs m = true) := ho
  have hm1 := (ordB_yes ho).2.2.2
  have hn3 := (ordB_yes ho).2.2.1
  clear ho
  have hk1 : (k == 1) = false := by simp [hk]
  have hk9 : (k == 9) = true := by simp [hk]
  clear hk
  have HLL : Hid (n + m = L) := hLL
  clear hLL
  obtain ⟨i0, hi, hz0, hz1, hz2⟩ := info_parts Tryd.info5
  have HSg : Hid (Seg w a n zs) := hg
  have HSf : Hid (Seg w (some ⟨bb, bo, none⟩) m ys) := hf
  have HCp : Hid (m ≤ capb) := hcap
  obtain ⟨W4, hW4⟩ : ∃ W4, (((w.alloc (.cells #[.int .i64 s, .bool en, .slice a n cap] 30)).alloc (.cells #[.int .i64 k, .int .i64 f, .int .i64 fs, .slice (some ⟨bb, bo, none⟩) m capb] 33)).alloc (.cells #[.int .i64 0, .bool false, .slice none 0 0] 30)).alloc (.cells #[] 5) = W4 := ⟨_, rfl⟩
  have q1 : Box3 W4 w.heap.size 30 (.int .i64 s) (.bool en) (.slice a n cap) := by rw [← hW4]; exact (((Box3.new _ _ _ _ _).alloc _).alloc _).alloc _
  have q2 : Box4 W4 (w.heap.size + 1) 33 (.int .i64 k) (.int .i64 f) (.int .i64 fs) (.slice (some ⟨bb, bo, none⟩) m capb) := by
    rw [← hW4]
    have := ((Box4.new (w.alloc (.cells #[.int .i64 s, .bool en, .slice a n cap] 30)) 33 (.int .i64 k) (.int .i64 f) (.int .i64 fs) (.slice (some ⟨bb, bo, none⟩) m capb)).alloc (.cells #[.int .i64 0, .bool false, .slice none 0 0] 30)).alloc (.cells #[] 5)
    rwa [World.size_alloc] at this
  have q3 : Box3 W4 (w.heap.size + 1 + 1) 30 (.int .i64 0) (.bool false) (.slice none 0 0) := by
    rw [← hW4]
    have := (Box3.new ((w.alloc (.cells #[.int .i64 s, .bool en, .slice a n cap] 30)).alloc (.cells #[.int .i64 k, .int .i64 f, .int .i64 fs, .slice (some ⟨bb, bo, none⟩) m capb] 33)) 30 (.int .i64 0) (.bool false) (.slice none 0 0)).alloc (.cells #[] 5)
    rwa [World.size_alloc, World.size_alloc] at this
  have q4 : Owns W4 (w.heap.size + 1 + 1 + 1) (some ⟨w.heap.size + 1 + 1 + 1, 0, none⟩) 0 0 [] := by
    rw [← hW4]
    have := World.ownsRow_lit (((w.alloc (.cells #[.int .i64 s, .bool en, .slice a n cap] 30)).alloc (.cells #[.int .i64 k, .int .i64 f, .int .i64 fs, .slice (some ⟨bb, bo, none⟩) m capb] 33)).alloc (.cells #[.int .i64 0, .bool false, .slice none 0 0] 30)) (e := 5) (size := 1) #[] 0 (Nat.le_refl _) (Nat.zero_le _) rfl
    rw [World.size_alloc, World.size_alloc, World.size_alloc] at this
    exact ⟨this, by simp⟩
  have HB4 : Hid (Below w.heap.size w W4) := by show Below _ _ _; rw [← hW4]; exact ((((Below.refl _ _).alloc (Nat.le_refl _) _).alloc (by simp) _).alloc (by simp; omega) _).alloc (by simp; omega) _
  have HZ4 : Hid (W4.heap.size = w.heap.size + 4) := by show _ = _; rw [← hW4]; simp
  have HQ : Hid (∀ W, Below W4.heap.size W4 W → Box3 W w.heap.size 30 (.int .i64 s) (.bool en) (.slice a n cap) ∧ Box4 W (w.heap.size + 1) 33 (.int .i64 k) (.int .i64 f) (.int .i64 fs) (.slice (some ⟨bb, bo, none⟩) m capb) ∧ Box3 W (w.heap.size + 1 + 1) 30 (.int .i64 0) (.bool false) (.slice none 0 0) ∧ Below w.heap.size w W ∧ Seg W a n zs ∧ Seg W (some ⟨bb, bo, none⟩) m ys ∧ Owns W (w.heap.size + 1 + 1 + 1) (some ⟨w.heap.size + 1 + 1 + 1, 0, none⟩) 0 0 []) := fun W h => by
    have hw : Below w.heap.size w W := HB4.out.trans (h.mono HB4.out.size)
    exact ⟨q1.stays h, q2.stays h, q3.stays h, hw, HSg.out.below hw, HSf.out.below hw, q4.below h⟩
  have HE4 : Hid ((((w.alloc (.cells #[.int .i64 s, .bool en, .slice a n cap] 30)).alloc (.cells #[.int .i64 k, .int .i64 f, .int .i64 fs, .slice (some ⟨bb, bo, none⟩) m capb] 33)).alloc (.cells #[.int .i64 0, .bool false, .slice none 0 0] 30)).alloc (.cells #[] 5) = W4) := hW4
  clear hW4 q1 q2 q3 q4 hg hf hcap
  go_enter Tryd.func14, Tryd.ntmps14
  go_upto_region 2 with fail
  rw [HE4.out]
  obtain ⟨c0, c1, c2⟩ := (HQ.out _ (Below.refl _ _)).1.cells
  go_cut [46] from 11 (fun v46 W => v46 = .bool false ∧ Hid (Below W4.heap.size W4 W))
  case first =>
    obtain ⟨ok, hok⟩ : ∃ ok, okG s en n = ok := ⟨_, rfl⟩
    have HOk : Hid (okG s en n = ok) := hok
    have HOd : Hid (ordB s en n k f fs m = true) := HO.out
    cases ok
    · go_wp2_with fail
      refine (specGok_any s en a n cap _).mono ?_
      rintro e x1 ⟨rfl, hb1⟩
      rw [HOk.out]
      have HX1 : Hid (Below W4.heap.size W4 x1) := hb1
      have HV : Hid (false = true) := by show _ = _; first | rfl | (rw [← HOd.out, ordB, HOk.out]; rfl)
      clear hb1 c0 c1 c2
      go_wp2_with fail
      go_meet
      exact ⟨by first | rfl | (exact absurd HV.out (by decide)), HX1⟩
    · obtain ⟨cd, hcd⟩ : ∃ cd, codeF k f fs m = cd := ⟨_, rfl⟩
      have HCd : Hid (codeF k f fs m = cd) := hcd
      clear hcd hok
      go_wp2_with fail
      refine (specGok_any s en a n cap _).mono ?_
      rintro e x1 ⟨rfl, hb1⟩
      rw [HOk.out]
      have HX1 : Hid (Below W4.heap.size W4 x1) := hb1
      clear hb1 c0 c1 c2
      obtain ⟨d0, d1, d2, d3⟩ := (HQ.out _ HX1.out).2.1.cells
      go_wp2_with fail
      refine (specCode_any k f fs (some ⟨bb, bo, none⟩) m capb _).mono ?_
      rintro e x2 ⟨rfl, hb2⟩
      rw [HCd.out]
      have HX2 : Hid (Below W4.heap.size W4 x2) := HX1.out.trans (hb2.mono HX1.out.size)
      clear hb2 d0 d1 d2 d3 HX1
      obtain ⟨c0, c1, c2⟩ := (HQ.out _ HX2.out).1.cells
      obtain ⟨d0, d1, d2, d3⟩ := (HQ.out _ HX2.out).2.1.cells
      by_cases hc0 : cd = 0
      · have HV : Hid ((if s = 0 then !(k == 9) else (k == 9) && (fs == s)) = true) := by
          show _ = _
          rw [← HOd.out, ordB, HOk.out, HCd.out, hc0]
          simp only [beq_self_eq_true, Bool.and_self, Bool.true_and]
        have HS0 : Hid (s = 0 ∨ 1 ≤ s) := okG_sign HOk.out
        subst hc0
        by_cases hs0 : s = 0
        · have HVs : Hid ((!(k == 9)) = true) := by have h := HV.out; rw [if_pos hs0] at h; exact h
          have e1 : decide ((0 : Int) < s) = false := by simp; omega
          have e2 : ((0 : Int) < s) = False := by simp; omega
          have e3 : (s == 0) = true := by simp [hs0]
          clear hs0
          cases hk : (k == 9) with
          | false =>
            go_wp2_with fail
            go_meet
            exact ⟨by first | rfl | (exact absurd (hk9.symm.trans hk) (by decide)) | (exact absurd (hk2.symm.trans hk) (by decide)) | (have h := HVs.out; rw [hk] at h; exact absurd h (by simp)), HX2⟩
          | true =>
            go_wp2_with fail
            go_meet
            exact ⟨by first | rfl | (exact absurd (hk9.symm.trans hk) (by decide)) | (exact absurd (hk2.symm.trans hk) (by decide)) | (have h := HVs.out; rw [hk] at h; exact absurd h (by simp)), HX2⟩
        · have HVs : Hid (((k == 9) && (fs == s)) = true) := by have h := HV.out; rw [if_neg hs0] at h; exact h
          have hs1 : 0 < s := by rcases HS0.out with h | h <;> omega
          have e1 : decide ((0 : Int) < s) = true := by simpa using hs1
          have e3 : (s == 0) = false := by simpa using hs0
          cases hk : (k == 9) with
          | false =>
            have e4 : (k != 9) = true := by simp [bne, hk]
            go_wp2_with fail
            go_meet
            exact ⟨by first | rfl | (exact absurd (hk9.symm.trans hk) (by decide)) | (exact absurd (hk2.symm.trans hk) (by decide)) | (have h := HVs.out; rw [hk] at h; exact absurd h (by simp)), HX2⟩
          | true =>
            have e4 : (k != 9) = false := by simp [bne, hk]
            cases hfs : (fs == s) with
            | false =>
              have e5 : (fs != s) = true := by simp [bne, hfs]
              go_wp2_with fail
              go_meet
              exact ⟨by first | rfl | (exact absurd (hk2.symm.trans hk) (by decide)) | (have h := HVs.out; rw [hk, hfs] at h; exact absurd h (by simp)), HX2⟩
            | true =>
              have e5 : (fs != s) = false := by simp [bne, hfs]
              go_wp2_with fail
              go_meet
              exact ⟨by first | rfl | (exact absurd (hk2.symm.trans hk) (by decide)) | (have h := HVs.out; rw [hk, hfs] at h; exact absurd h (by simp)), HX2⟩
      · have hne : (cd != 0) = true := by simpa using hc0
        have HV : Hid (false = true) := by
          have hcc : (cd == 0) = false := by simpa using hc0
          show _ = _
          first | rfl | (rw [← HOd.out, ordB, HOk.out, HCd.out, hcc]; rfl)
        go_wp2_with fail
        go_meet
        exact ⟨by first | rfl | (exact absurd HV.out (by decide)), HX2⟩
  case rest =>
  obtain ⟨rfl, HX1⟩ := hcut
  obtain ⟨x1, hx1⟩ : ∃ x1, wc = x1 := ⟨_, rfl⟩
  rw [hx1] at HX1 ⊢
  clear hx1 c0 c1 c2 HE4
  obtain ⟨c0, c1, c2⟩ := (HQ.out _ HX1.out).1.cells
  go_wp2_with fail
  refine (copyGaS_any s en a n cap zs _ (HQ.out _ HX1.out).2.2.2.2.1 hl).mono ?_
  rintro e y1 ⟨a4, k4, rfl, og4, hb2⟩
  have hz := HZ4.out
  have hz1 := HX1.out.size
  have hz2 := hb2.size
  have HY1 : Hid (Below W4.heap.size W4 (y1.alloc (.cells #[.int .i64 s, .bool en, .slice a4 n k4] 30))) := (HX1.out.trans (hb2.mono HX1.out.size)).alloc (by omega) _
  have HN1 : Hid (Box3 (y1.alloc (.cells #[.int .i64 s, .bool en, .slice a4 n k4] 30)) y1.heap.size 30 (.int .i64 s) (.bool en) (.slice a4 n k4)) := Box3.new _ _ _ _ _
  have HG1 : Hid (Owns (y1.alloc (.cells #[.int .i64 s, .bool en, .slice a4 n k4] 30)) x1.heap.size a4 n k4 zs ∧ ∀ q, a4.map (·.block) = some q → q < y1.heap.size) := ⟨og4.below ((Below.refl _ _).alloc (Nat.le_refl _) _), fun q hq => (og4.lt q hq).2⟩
  have HS1 : Hid (x1.heap.size ≤ y1.heap.size ∧ w.heap.size + 4 ≤ x1.heap.size) := ⟨hz2, by omega⟩
  obtain ⟨Y, hY⟩ : ∃ Y, y1.alloc (.cells #[.int .i64 s, .bool en, .slice a4 n k4] 30) = Y := ⟨_, rfl⟩
  have HYs : Hid (Y.heap.size = y1.heap.size + 1) := by show _ = _; rw [← hY]; simp
  have HYe : Hid (y1.alloc (.cells #[.int .i64 s, .bool en, .slice a4 n k4] 30) = Y) := hY
  rw [hY] at HY1 HN1 HG1
  clear hb2 og4 hz hz1 hz2 c0 c1 c2 hY
  go_upto_region 5 with fail
  rw [HYe.out]
  clear HYe
  generalize y1.heap.size = nb at *
  obtain ⟨d0, d1, d2, d3⟩ := (HQ.out _ HY1.out).2.1.cells
  have h1 := HS1.out
  have h2 := HYs.out
  obtain ⟨e0, e1, e2⟩ := HN1.out.cells
  have HSY : Hid (Seg Y (some ⟨bb, bo, none⟩) m ys) := (HQ.out _ HY1.out).2.2.2.2.2.1
  have HA : Hid (Y.ownsRow x1.heap.size 5 1 (.slice a4 n k4) n (zs.map (Value.int .u8))) := HG1.out.1.1
  have hyl : ys.length = m := HSY.out.1
  have hxs : x1.heap.size ≤ Y.heap.size := by omega
  go_wp2_with (at_builtin; refine wpList_append_own _ rfl _ _ 22 rfl x1.heap.size 5 i0 (.int .u8 0) 1 1 Tryd.underlying22 hi hz0 hz1 hz2 rfl (by decide) (.slice a4 n k4) n (zs.map (Value.int .u8)) rfl HA.out ⟨bb, bo, none⟩ m capb (ys.map (Value.int .u8)) rfl (by simp [hyl]) (seg_src HSY.out _ rfl) (ints_one ys) (by unfold maxLen; omega) (by omega) hxs ?_; intro v5 Z5 hown5 hgrow5 _; refine Hid.out ?_)
  refine hidden ?_
  obtain ⟨a5, k5, rfl⟩ := shape_of_owns hown5
  rw [ownBlock_of] at hgrow5
  have hlo : ∀ q, a4.map (·.block) = some q → x1.heap.size ≤ q ∧ q < nb := fun q hq => ⟨(HG1.out.1.lt q hq).1, HG1.out.2 q hq⟩
  have HO5 : Hid (Owns Z5 x1.heap.size a5 (n + m) k5 (zs ++ ys)) := ⟨by rw [List.map_append]; exact hown5, fun x hx => by
    rcases List.mem_append.1 hx with hx | hx
    · exact HG1.out.1.2 x hx
    · exact HSY.out.2.1 x hx⟩
  have HN5 : Hid (Box3 Z5 nb 30 (.int .i64 s) (.bool en) (.slice a4 n k4)) := HN1.out.grown hgrow5 (fun e => by have := hlo nb e; omega)
  have HX5 : Hid (Below W4.heap.size W4 Z5) := HY1.out.grown hgrow5 HY1.out.size (fun q e => by have h3 := (hlo q e).1; have h4 := HX1.out.size; omega)
  have HT5 : Hid (∀ q, a5.map (·.block) = some q → q ≠ nb ∧ x1.heap.size ≤ q) := fun q hq => ⟨fun e => by
    subst e
    exact HO5.out.other (show Z5.heap[q]? = _ from HN5.out) (by decide) hq, (HO5.out.lt q hq).1⟩
  have hL := HLL.out
  have HLe : Hid (n + m = L) := hL
  rw [hL] at HO5 ⊢
  clear hown5 hgrow5 hlo e0 e1 e2 HA HSY hyl d0 d1 d2 d3
  obtain ⟨e0, e1, e2⟩ := HN5.out.cells
  have f2 := HN5.out.frozen 2
  obtain ⟨Z, hZ⟩ : ∃ Z, Z5.setCell ⟨nb, 2, none⟩ (.slice a5 L k5) = Z := ⟨_, rfl⟩
  have HZe : Hid (Z5.setCell ⟨nb, 2, none⟩ (.slice a5 L k5) = Z) := hZ
  have HNx : Hid (Box3 Z nb 30 (.int .i64 s) (.bool en) (.slice a5 L k5)) := by
    show Box3 _ _ _ _ _ _
    rw [← hZ]
    exact box3_set2 HN5.out _
  have HX6 : Hid (Below W4.heap.size W4 Z) := by
    show Below _ _ _
    rw [← hZ]
    exact HX5.out.setCell (p := ⟨nb, 2, none⟩) (by show W4.heap.size ≤ nb; have := HX1.out.size; omega) _
  have HOx : Hid (Owns Z x1.heap.size a5 L k5 (zs ++ ys) ∧ w.heap.size + 4 ≤ x1.heap.size) := by
    refine ⟨?_, by omega⟩
    rw [← hZ]
    exact owns_set HO5.out (fun e => (HT5.out nb e).1 rfl)
  have HNb : Hid (w.heap.size + 4 ≤ nb) := by show _ ≤ _; omega
  clear hZ HO5 HT5 HX5 h1 h2 hxs hL
  go_upto_region 14 with fail
  rw [HZe.out]
  clear HZe e0 e1 e2 f2
  obtain ⟨d0, d1, d2, d3⟩ := (HQ.out _ HX6.out).2.1.cells
  obtain ⟨e0, e1, e2⟩ := HNx.out.cells
  have hbi : ¬ (3000 : Int) < (L : Int) := by have := HLe.out; omega
  obtain ⟨g0, g1, g2⟩ := (HQ.out _ HX6.out).2.2.1.cells
  have f0 := (HQ.out _ HX6.out).2.2.1.frozen 0
  have f1 := (HQ.out _ HX6.out).2.2.1.frozen 1
  have f2 := (HQ.out _ HX6.out).2.2.1.frozen 2
  have hnb := HNb.out
  have hn : a5.map (·.block) ≠ some (w.heap.size + 1 + 1) := fun e => by have h3 := (HOx.out.1.lt _ e).1; have h4 := HOx.out.2; omega
  have HF := (show Hid _ from (owns_set (owns_set (owns_set (k := 0) (v := .int .i64 0) HOx.out.1 hn) (k := 1) (v := .bool false) hn) (k := 2) (v := .slice none 0 0) hn).low (show w.heap.size ≤ _ by have h4 := HOx.out.2; omega))
  have HBz := (HQ.out _ HX6.out).2.2.2.1
  have HF2 := (show Hid _ from ((HBz.setCell (p := ⟨w.heap.size + 1 + 1, 0, none⟩) (by show w.heap.size ≤ w.heap.size + 1 + 1; omega) (.int .i64 0)).setCell (p := ⟨w.heap.size + 1 + 1, 1, none⟩) (by show w.heap.size ≤ w.heap.size + 1 + 1; omega) (.bool false)).setCell (p := ⟨w.heap.size + 1 + 1, 2, none⟩) (by show w.heap.size ≤ w.heap.size + 1 + 1; omega) (.slice none 0 0))
  clear HBz
  go_upto_region 17 with fail
  go_region_held3 (fun W => W.cell? ⟨nb, 2, none⟩ = some (.slice a5 L k5)) (first | assumption | (refine cellS_kept ?_ (cellS_kept ?_ (cellS_kept ?_ (by assumption))) <;> (have := HNb.out; omega))) (fail)
  go_wp2_with fail
  refine bodyPost_ret (v := .tuple #[.agg #[.int .i64 0, .bool false, .slice none 0 0], .slice a5 L k5, .int .i64 1]) (by simp [results, Tryd.f14, go_sem, g0, g1, g2]) rfl ?_
  exact ⟨_, _, rfl, HF.out, HF2.out.drew⟩

set_option maxRecDepth 10000 in
set_option maxHeartbeats 6400000 in
theorem feedS_other (s : Int) (en : Bool) (a : Option Addr) (n cap : Nat) (zs : List Int) (k f fs : Int) (bb bo : Nat) (m capb : Nat) (ys : List Int) (w : World) (hg : Seg w a n zs) (hf : Seg w (some ⟨bb, bo, none⟩) m ys) (hcap : m ≤ capb) (hl : n ≤ 1048576) (hm : m ≤ 1048576) (ho : ordB s en n k f fs m = true) (hk : ¬ k = 1) (hk9 : ¬ k = 9) :
    Calls Tryd.prog 14 #[.agg #[.int .i64 s, .bool en, .slice a n cap], .agg #[.int .i64 k, .int .i64 f, .int .i64 fs, .slice (some ⟨bb, bo, none⟩) m capb]] w fun e w' => ∃ a' c' a2 c2, e = .returned (.tuple #[.agg #[.int .i64 s, .bool en, .slice a' n c'], .slice a2 0 c2, .int .i64 0]) ∧ Owns w' w.heap.size a' n c' zs ∧ Owns w' w.heap.size a2 0 c2 [] ∧ Parts2 a' a2 ∧ Below w.heap.size w w' := by
  have HO : Hid (ordB s en n k f fs m = true) := ho
  have hm1 := (ordB_yes ho).2.2.2
  have hn3 := (ordB_yes ho).2.2.1
  clear ho
  have hk1 : (k == 1) = false := by simpa using hk
  have hk2 : (k == 9) = false := by simpa using hk9
  clear hk hk9
  obtain ⟨i0, hi, hz0, hz1, hz2⟩ := info_parts Tryd.info5
  have HSg : Hid (Seg w a n zs) := hg
  have HSf : Hid (Seg w (some ⟨bb, bo, none⟩) m ys) := hf
  have HCp : Hid (m ≤ capb) := hcap
  obtain ⟨W4, hW4⟩ : ∃ W4, (((w.alloc (.cells #[.int .i64 s, .bool en, .slice a n cap] 30)).alloc (.cells #[.int .i64 k, .int .i64 f, .int .i64 fs, .slice (some ⟨bb, bo, none⟩) m capb] 33)).alloc (.cells #[.int .i64 0, .bool false, .slice none 0 0] 30)).alloc (.cells #[] 5) = W4 := ⟨_, rfl⟩
  have q1 : Box3 W4 w.heap.size 30 (.int .i64 s) (.bool en) (.slice a n cap) := by rw [← hW4]; exact (((Box3.new _ _ _ _ _).alloc _).alloc _).alloc _
  have q2 : Box4 W4 (w.heap.size + 1) 33 (.int .i64 k) (.int .i64 f) (.int .i64 fs) (.slice (some ⟨bb, bo, none⟩) m capb) := by
    rw [← hW4]
    have := ((Box4.new (w.alloc (.cells #[.int .i64 s, .bool en, .slice a n cap] 30)) 33 (.int .i64 k) (.int .i64 f) (.int .i64 fs) (.slice (some ⟨bb, bo, none⟩) m capb)).alloc (.cells #[.int .i64 0, .bool false, .slice none 0 0] 30)).alloc (.cells #[] 5)
    rwa [World.size_alloc] at this
  have q3 : Box3 W4 (w.heap.size + 1 + 1) 30 (.int .i64 0) (.bool false) (.slice none 0 0) := by
    rw [← hW4]
    have := (Box3.new ((w.alloc (.cells #[.int .i64 s, .bool en, .slice a n cap] 30)).alloc (.cells #[.int .i64 k, .int .i64 f, .int .i64 fs, .slice (some ⟨bb, bo, none⟩) m capb] 33)) 30 (.int .i64 0) (.bool false) (.slice none 0 0)).alloc (.cells #[] 5)
    rwa [World.size_alloc, World.size_alloc] at this
  have q4 : Owns W4 (w.heap.size + 1 + 1 + 1) (some ⟨w.heap.size + 1 + 1 + 1, 0, none⟩) 0 0 [] := by
    rw [← hW4]
    have := World.ownsRow_lit (((w.alloc (.cells #[.int .i64 s, .bool en, .slice a n cap] 30)).alloc (.cells #[.int .i64 k, .int .i64 f, .int .i64 fs, .slice (some ⟨bb, bo, none⟩) m capb] 33)).alloc (.cells #[.int .i64 0, .bool false, .slice none 0 0] 30)) (e := 5) (size := 1) #[] 0 (Nat.le_refl _) (Nat.zero_le _) rfl
    rw [World.size_alloc, World.size_alloc, World.size_alloc] at this
    exact ⟨this, by simp⟩
  have HB4 : Hid (Below w.heap.size w W4) := by show Below _ _ _; rw [← hW4]; exact ((((Below.refl _ _).alloc (Nat.le_refl _) _).alloc (by simp) _).alloc (by simp; omega) _).alloc (by simp; omega) _
  have HZ4 : Hid (W4.heap.size = w.heap.size + 4) := by show _ = _; rw [← hW4]; simp
  have HQ : Hid (∀ W, Below W4.heap.size W4 W → Box3 W w.heap.size 30 (.int .i64 s) (.bool en) (.slice a n cap) ∧ Box4 W (w.heap.size + 1) 33 (.int .i64 k) (.int .i64 f) (.int .i64 fs) (.slice (some ⟨bb, bo, none⟩) m capb) ∧ Box3 W (w.heap.size + 1 + 1) 30 (.int .i64 0) (.bool false) (.slice none 0 0) ∧ Below w.heap.size w W ∧ Seg W a n zs ∧ Seg W (some ⟨bb, bo, none⟩) m ys ∧ Owns W (w.heap.size + 1 + 1 + 1) (some ⟨w.heap.size + 1 + 1 + 1, 0, none⟩) 0 0 []) := fun W h => by
    have hw : Below w.heap.size w W := HB4.out.trans (h.mono HB4.out.size)
    exact ⟨q1.stays h, q2.stays h, q3.stays h, hw, HSg.out.below hw, HSf.out.below hw, q4.below h⟩
  have HE4 : Hid ((((w.alloc (.cells #[.int .i64 s, .bool en, .slice a n cap] 30)).alloc (.cells #[.int .i64 k, .int .i64 f, .int .i64 fs, .slice (some ⟨bb, bo, none⟩) m capb] 33)).alloc (.cells #[.int .i64 0, .bool false, .slice none 0 0] 30)).alloc (.cells #[] 5) = W4) := hW4
  clear hW4 q1 q2 q3 q4 hg hf hcap
  go_enter Tryd.func14, Tryd.ntmps14
  go_upto_region 2 with fail
  rw [HE4.out]
  obtain ⟨c0, c1, c2⟩ := (HQ.out _ (Below.refl _ _)).1.cells
  go_cut [46] from 11 (fun v46 W => v46 = .bool false ∧ Hid (Below W4.heap.size W4 W))
  case first =>
    obtain ⟨ok, hok⟩ : ∃ ok, okG s en n = ok := ⟨_, rfl⟩
    have HOk : Hid (okG s en n = ok) := hok
    have HOd : Hid (ordB s en n k f fs m = true) := HO.out
    cases ok
    · go_wp2_with fail
      refine (specGok_any s en a n cap _).mono ?_
      rintro e x1 ⟨rfl, hb1⟩
      rw [HOk.out]
      have HX1 : Hid (Below W4.heap.size W4 x1) := hb1
      have HV : Hid (false = true) := by show _ = _; first | rfl | (rw [← HOd.out, ordB, HOk.out]; rfl)
      clear hb1 c0 c1 c2
      go_wp2_with fail
      go_meet
      exact ⟨by first | rfl | (exact absurd HV.out (by decide)), HX1⟩
    · obtain ⟨cd, hcd⟩ : ∃ cd, codeF k f fs m = cd := ⟨_, rfl⟩
      have HCd : Hid (codeF k f fs m = cd) := hcd
      clear hcd hok
      go_wp2_with fail
      refine (specGok_any s en a n cap _).mono ?_
      rintro e x1 ⟨rfl, hb1⟩
      rw [HOk.out]
      have HX1 : Hid (Below W4.heap.size W4 x1) := hb1
      clear hb1 c0 c1 c2
      obtain ⟨d0, d1, d2, d3⟩ := (HQ.out _ HX1.out).2.1.cells
      go_wp2_with fail
      refine (specCode_any k f fs (some ⟨bb, bo, none⟩) m capb _).mono ?_
      rintro e x2 ⟨rfl, hb2⟩
      rw [HCd.out]
      have HX2 : Hid (Below W4.heap.size W4 x2) := HX1.out.trans (hb2.mono HX1.out.size)
      clear hb2 d0 d1 d2 d3 HX1
      obtain ⟨c0, c1, c2⟩ := (HQ.out _ HX2.out).1.cells
      obtain ⟨d0, d1, d2, d3⟩ := (HQ.out _ HX2.out).2.1.cells
      by_cases hc0 : cd = 0
      · have HV : Hid ((if s = 0 then !(k == 9) else (k == 9) && (fs == s)) = true) := by
          show _ = _
          rw [← HOd.out, ordB, HOk.out, HCd.out, hc0]
          simp only [beq_self_eq_true, Bool.and_self, Bool.true_and]
        have HS0 : Hid (s = 0 ∨ 1 ≤ s) := okG_sign HOk.out
        subst hc0
        by_cases hs0 : s = 0
        · have HVs : Hid ((!(k == 9)) = true) := by have h := HV.out; rw [if_pos hs0] at h; exact h
          have e1 : decide ((0 : Int) < s) = false := by simp; omega
          have e2 : ((0 : Int) < s) = False := by simp; omega
          have e3 : (s == 0) = true := by simp [hs0]
          clear hs0
          cases hk : (k == 9) with
          | false =>
            go_wp2_with fail
            go_meet
            exact ⟨by first | rfl | (exact absurd (hk9.symm.trans hk) (by decide)) | (exact absurd (hk2.symm.trans hk) (by decide)) | (have h := HVs.out; rw [hk] at h; exact absurd h (by simp)), HX2⟩
          | true =>
            go_wp2_with fail
            go_meet
            exact ⟨by first | rfl | (exact absurd (hk9.symm.trans hk) (by decide)) | (exact absurd (hk2.symm.trans hk) (by decide)) | (have h := HVs.out; rw [hk] at h; exact absurd h (by simp)), HX2⟩
        · have HVs : Hid (((k == 9) && (fs == s)) = true) := by have h := HV.out; rw [if_neg hs0] at h; exact h
          have hs1 : 0 < s := by rcases HS0.out with h | h <;> omega
          have e1 : decide ((0 : Int) < s) = true := by simpa using hs1
          have e3 : (s == 0) = false := by simpa using hs0
          cases hk : (k == 9) with
          | false =>
            have e4 : (k != 9) = true := by simp [bne, hk]
            go_wp2_with fail
            go_meet
            exact ⟨by first | rfl | (exact absurd (hk9.symm.trans hk) (by decide)) | (exact absurd (hk2.symm.trans hk) (by decide)) | (have h := HVs.out; rw [hk] at h; exact absurd h (by simp)), HX2⟩
          | true =>
            have e4 : (k != 9) = false := by simp [bne, hk]
            cases hfs : (fs == s) with
            | false =>
              have e5 : (fs != s) = true := by simp [bne, hfs]
              go_wp2_with fail
              go_meet
              exact ⟨by first | rfl | (exact absurd (hk2.symm.trans hk) (by decide)) | (have h := HVs.out; rw [hk, hfs] at h; exact absurd h (by simp)), HX2⟩
            | true =>
              have e5 : (fs != s) = false := by simp [bne, hfs]
              go_wp2_with fail
              go_meet
              exact ⟨by first | rfl | (exact absurd (hk2.symm.trans hk) (by decide)) | (have h := HVs.out; rw [hk, hfs] at h; exact absurd h (by simp)), HX2⟩
      · have hne : (cd != 0) = true := by simpa using hc0
        have HV : Hid (false = true) := by
          have hcc : (cd == 0) = false := by simpa using hc0
          show _ = _
          first | rfl | (rw [← HOd.out, ordB, HOk.out, HCd.out, hcc]; rfl)
        go_wp2_with fail
        go_meet
        exact ⟨by first | rfl | (exact absurd HV.out (by decide)), HX2⟩
  case rest =>
  obtain ⟨rfl, HX1⟩ := hcut
  obtain ⟨x1, hx1⟩ : ∃ x1, wc = x1 := ⟨_, rfl⟩
  rw [hx1] at HX1 ⊢
  clear hx1 c0 c1 c2 HE4
  obtain ⟨c0, c1, c2⟩ := (HQ.out _ HX1.out).1.cells
  go_wp2_with fail
  refine (copyGaS_any s en a n cap zs _ (HQ.out _ HX1.out).2.2.2.2.1 hl).mono ?_
  rintro e y1 ⟨a4, k4, rfl, og4, hb2⟩
  have hz := HZ4.out
  have hz1 := HX1.out.size
  have hz2 := hb2.size
  have HY1 : Hid (Below W4.heap.size W4 (y1.alloc (.cells #[.int .i64 s, .bool en, .slice a4 n k4] 30))) := (HX1.out.trans (hb2.mono HX1.out.size)).alloc (by omega) _
  have HN1 : Hid (Box3 (y1.alloc (.cells #[.int .i64 s, .bool en, .slice a4 n k4] 30)) y1.heap.size 30 (.int .i64 s) (.bool en) (.slice a4 n k4)) := Box3.new _ _ _ _ _
  have HG1 : Hid (Owns (y1.alloc (.cells #[.int .i64 s, .bool en, .slice a4 n k4] 30)) x1.heap.size a4 n k4 zs ∧ ∀ q, a4.map (·.block) = some q → q < y1.heap.size) := ⟨og4.below ((Below.refl _ _).alloc (Nat.le_refl _) _), fun q hq => (og4.lt q hq).2⟩
  have HS1 : Hid (x1.heap.size ≤ y1.heap.size ∧ w.heap.size + 4 ≤ x1.heap.size) := ⟨hz2, by omega⟩
  obtain ⟨Y, hY⟩ : ∃ Y, y1.alloc (.cells #[.int .i64 s, .bool en, .slice a4 n k4] 30) = Y := ⟨_, rfl⟩
  have HYs : Hid (Y.heap.size = y1.heap.size + 1) := by show _ = _; rw [← hY]; simp
  have HYe : Hid (y1.alloc (.cells #[.int .i64 s, .bool en, .slice a4 n k4] 30) = Y) := hY
  rw [hY] at HY1 HN1 HG1
  clear hb2 og4 hz hz1 hz2 c0 c1 c2 hY
  go_upto_region 5 with fail
  rw [HYe.out]
  clear HYe
  generalize y1.heap.size = nb at *
  obtain ⟨d0, d1, d2, d3⟩ := (HQ.out _ HY1.out).2.1.cells
  obtain ⟨e0, e1, e2⟩ := HN1.out.cells
  have HOx : Hid (Owns Y x1.heap.size a4 n k4 zs ∧ w.heap.size + 4 ≤ x1.heap.size) := ⟨HG1.out.1, HS1.out.2⟩
  obtain ⟨g0, g1, g2⟩ := (HQ.out _ HY1.out).2.2.1.cells
  have f0 := (HQ.out _ HY1.out).2.2.1.frozen 0
  have f1 := (HQ.out _ HY1.out).2.2.1.frozen 1
  have f2 := (HQ.out _ HY1.out).2.2.1.frozen 2
  have HF : Hid (Owns (((Y.setCell ⟨w.heap.size + 1 + 1, 0, none⟩ (.int .i64 s)).setCell ⟨w.heap.size + 1 + 1, 1, none⟩ (.bool en)).setCell ⟨w.heap.size + 1 + 1, 2, none⟩ (.slice a4 n k4)) w.heap.size a4 n k4 zs ∧ Owns (((Y.setCell ⟨w.heap.size + 1 + 1, 0, none⟩ (.int .i64 s)).setCell ⟨w.heap.size + 1 + 1, 1, none⟩ (.bool en)).setCell ⟨w.heap.size + 1 + 1, 2, none⟩ (.slice a4 n k4)) w.heap.size (some ⟨w.heap.size + 1 + 1 + 1, 0, none⟩) 0 0 [] ∧ Parts2 a4 (some ⟨w.heap.size + 1 + 1 + 1, 0, none⟩) ∧ Below w.heap.size w (((Y.setCell ⟨w.heap.size + 1 + 1, 0, none⟩ (.int .i64 s)).setCell ⟨w.heap.size + 1 + 1, 1, none⟩ (.bool en)).setCell ⟨w.heap.size + 1 + 1, 2, none⟩ (.slice a4 n k4))) := by
    obtain ⟨ho, hbase⟩ := HOx.out
    have hn : a4.map (·.block) ≠ some (w.heap.size + 1 + 1) := fun e => by have h3 := (ho.lt _ e).1; omega
    have hn0 : (some (⟨w.heap.size + 1 + 1 + 1, 0, none⟩ : Addr)).map (·.block) ≠ some (w.heap.size + 1 + 1) := fun e => by (injection e with e; have e' : w.heap.size + 1 + 1 + 1 = w.heap.size + 1 + 1 := e; omega)
    have hyb := (HQ.out _ HY1.out).2.2.2.1
    refine ⟨(owns_set (owns_set (owns_set ho hn) hn) hn).low (by omega), (owns_set (owns_set (owns_set (HQ.out _ HY1.out).2.2.2.2.2.2 hn0) hn0) hn0).low (by omega), fun q hq e => ?_, ((hyb.setCell (p := ⟨w.heap.size + 1 + 1, 0, none⟩) (by show w.heap.size ≤ w.heap.size + 1 + 1; omega) _).setCell (p := ⟨w.heap.size + 1 + 1, 1, none⟩) (by show w.heap.size ≤ w.heap.size + 1 + 1; omega) _).setCell (p := ⟨w.heap.size + 1 + 1, 2, none⟩) (by show w.heap.size ≤ w.heap.size + 1 + 1; omega) _⟩
    have h3 := (ho.lt q hq).1
    have e' : w.heap.size + 1 + 1 + 1 = q := by injection e
    omega
  go_wp2_with fail
  refine bodyPost_ret (v := .tuple #[.agg #[.int .i64 s, .bool en, .slice a4 n k4], .slice (some ⟨w.heap.size + 1 + 1 + 1, 0, none⟩) 0 0, .int .i64 0]) (by simp [results, Tryd.f14, go_sem, g0, g1, g2]) rfl ?_
  exact ⟨_, _, _, _, rfl, HF.out.1, HF.out.2.1, HF.out.2.2.1, HF.out.2.2.2⟩

end Go.Proofs.YtckpacifimpkgadDoor
