/- The law that what a drawn frame does to what is gathered stays right, and what is refused changes nothing. -/
import Derived.Test.YtckpacifimpkgadDoorFeedNum
import Derived.Test.YtckpacifimpkgadDoorOwn
import Derived.Deep.QuietTactic
import Derived.Test.YtckpacifimpkgadDoorFeedIA
import Derived.Test.YtckpacifimpkgadDoorFeedSD
import Derived.Test.YtckpacifimpkgadDoorDrawFeed
namespace Go.Proofs.YtckpacifimpkgadDoor
open Go.RowKit
set_option linter.unusedVariables false

theorem codeF_head {f s : Int} {n : Nat} (h : codeF 1 f s n = 0) : 1 ≤ s ∧ s ≤ 2147483647 := by
  unfold codeF at h
  split at h
  · rename_i h1
    split at h
    · rename_i h2
      have h3 := (okF_yes h1.1).2.2.1
      unfold streamF at h2
      rw [if_pos (by simp)] at h2
      have h4 : ¬ s = 0 := by
        intro e
        rw [e] at h2
        exact absurd h2 (by decide)
      omega
    · cases h
  · cases h

theorem grownR_says (s : Int) (en : Bool) (zs : List Int) (k f fs : Int) (ys : List Int) :
    (∃ c, grownR s en zs k f fs ys = .inl c ∧ ¬ c = 0 ∧ ¬ c = 1) ∨ ∃ g, grownR s en zs k f fs ys = .inr g ∧ okG g.1 g.2.1 g.2.2.length = true ∧ g.2.2.length ≤ 3000 := by
  cases ho : ordB s en zs.length k f fs ys.length with
  | false => exact .inl ⟨2, by rw [grownR, ho]; rfl, by omega, by omega⟩
  | true =>
    obtain ⟨hok, hcode, hn, hm⟩ := ordB_yes ho
    have e0 : grownR s en zs k f fs ys = if k = 1 then (match unpadR (bits .and .i64 f 8 != 0) ((k == 1) && (bits .and .i64 f 32 != 0)) ys with | none => .inl 3 | some b => .inr (fs, bits .and .i64 f 1 != 0, b)) else if k = 9 then (if 3000 < zs.length + ys.length then .inl 4 else .inr (s, en, zs ++ ys)) else .inr (s, en, zs) := by
      rw [grownR, if_pos ho]
      rfl
    by_cases hk : k = 1
    · subst hk
      rw [if_pos rfl] at e0
      cases hr : unpadR (bits .and .i64 f 8 != 0) (((1 : Int) == 1) && (bits .and .i64 f 32 != 0)) ys with
      | none =>
        rw [hr] at e0
        exact .inl ⟨3, e0, by omega, by omega⟩
      | some u =>
        rw [hr] at e0
        have hl := unpad_len _ _ _ _ hr
        have hs := codeF_head hcode
        refine .inr ⟨_, e0, ?_, by dsimp only; omega⟩
        dsimp only
        rw [okG, if_neg (by omega)]
        exact decide_eq_true ⟨hs.1, hs.2, by omega⟩
    · rw [if_neg hk] at e0
      by_cases hk9 : k = 9
      · subst hk9
        rw [if_pos rfl] at e0
        by_cases hb : 3000 < zs.length + ys.length
        · rw [if_pos hb] at e0
          exact .inl ⟨4, e0, by omega, by omega⟩
        · rw [if_neg hb] at e0
          refine .inr ⟨_, e0, ?_, by dsimp only; rw [List.length_append]; omega⟩
          dsimp only
          have hs0 : ¬ s = 0 := fun e => by
            rw [ordB, hok, hcode, if_pos e] at ho
            exact absurd ho (by decide)
          rw [okG, if_neg hs0] at hok ⊢
          have h1 := of_decide_eq_true hok
          exact decide_eq_true ⟨h1.1, h1.2.1, by rw [List.length_append]; omega⟩
      · rw [if_neg hk9] at e0
        exact .inr ⟨_, e0, hok, hn⟩

theorem feedR_says {s : Int} {en : Bool} {zs : List Int} {k f fs : Int} {ys : List Int} {S : Int} {EN : Bool} {Z1 Z2 : List Int} {C : Int} (h : feedR s en zs k f fs ys = ((S, EN, Z1), Z2, C)) :
    (C = 0 ∧ okG S EN Z1.length = true ∧ Z2 = []) ∨ (C = 1 ∧ S = 0 ∧ Z1 = [] ∧ Z2.length ≤ 3000) ∨ (¬ C = 0 ∧ ¬ C = 1 ∧ S = s ∧ Z1 = zs ∧ Z2 = []) := by
  rcases grownR_says s en zs k f fs ys with ⟨c, hc, h0, h1⟩ | ⟨g, hg, hok, hl⟩
  · rw [feedR, hc] at h
    simp only [Prod.mk.injEq] at h
    obtain ⟨⟨e1, e2, e3⟩, e4, e5⟩ := h
    exact .inr (.inr ⟨by omega, by omega, e1.symm, e3.symm, e4.symm⟩)
  · rw [feedR, hg] at h
    dsimp only at h
    split at h
    · simp only [Prod.mk.injEq] at h
      obtain ⟨⟨e1, e2, e3⟩, e4, e5⟩ := h
      exact .inr (.inl ⟨e5.symm, e1.symm, e3.symm, by rw [← e4]; exact hl⟩)
    · simp only [Prod.mk.injEq] at h
      obtain ⟨e1, e4, e5⟩ := h
      rw [e1] at hok
      exact .inl ⟨e5.symm, hok, e4.symm⟩

end Go.Proofs.YtckpacifimpkgadDoor

namespace Go.Proofs.YtckpacifimpkgadDoor
open Go.RowKit
set_option linter.unusedVariables false

set_option maxHeartbeats 400000 in
theorem sameB_same (a b : Option Addr) (len ca cb : Nat) (xs : List Int) (w : World) (hx : Seg w a len xs) (hy : Seg w b len xs) (hla : len ≤ 1099511627776) :
    Calls Tryd.prog 12 #[.slice a len ca, .slice b len cb] w fun e w' => e = .returned (.bool true) ∧ ∃ n, w' = w.drewN n := by
  have HX : Hid (Seg w a len xs) := hx
  have HY : Hid (Seg w b len xs) := hy
  clear hx hy
  have hne : ((len : Int) != (len : Int)) = false := by simp
  go_enter Tryd.func12, Tryd.ntmps12
  go_wp2
  go_loopw [5] (fun i wr => ∃ k : Nat, k ≤ len ∧ i = .int .i64 k ∧ Hid (∃ n, wr = w.drewN n)) (fun i _ => len - (intOf i).toNat)
  case atStart => exact ⟨0, Nat.zero_le _, rfl, ⟨0, rfl⟩⟩
  case round =>
    obtain ⟨k, hk, rfl, HW⟩ := hrel
    by_cases hlt : k < len
    · obtain ⟨ba, oa, rfl, hba, hca⟩ : ∃ b off, a = some ⟨b, off, none⟩ ∧ b < w.heap.size ∧ ∀ i, i < len → w.cell? ⟨b, off + i, none⟩ = some (.int .u8 (xs.getD i 0)) := by
        rcases HX.out.2.2 with h | h
        · omega
        · exact h
      obtain ⟨bb, ob, rfl, hbb, hcb⟩ : ∃ b' off, b = some ⟨b', off, none⟩ ∧ b' < w.heap.size ∧ ∀ i, i < len → w.cell? ⟨b', off + i, none⟩ = some (.int .u8 (xs.getD i 0)) := by
        rcases HY.out.2.2 with h | h
        · omega
        · exact h
      have ha : wr.cell? ⟨ba, oa + k, none⟩ = some (.int .u8 (xs.getD k 0)) := by obtain ⟨n, rfl⟩ := HW; exact hca k hlt
      have hb : wr.cell? ⟨bb, ob + k, none⟩ = some (.int .u8 (xs.getD k 0)) := by obtain ⟨n, rfl⟩ := HW; exact hcb k hlt
      clear hca hcb
      have hki : (k : Int) < (len : Int) := by omega
      have hk0 : (0 : Int) ≤ (k : Int) := by omega
      go_wp2
      go_quiet (fail)
      go_wp2
      go_roundw
      case rel =>
        refine ⟨k + 1, by omega, by go_num, ?_⟩
        obtain ⟨n, rfl⟩ := HW.out
        exact ⟨_, World.drewN_drewN _ _ _⟩
      case measure => simp [intOf]; omega
    · go_wp2
      go_ret
      exact ⟨rfl, HW.out⟩

end Go.Proofs.YtckpacifimpkgadDoor

namespace Go.Proofs.YtckpacifimpkgadDoor
open Go.RowKit
set_option linter.unusedVariables false

set_option maxHeartbeats 400000 in
theorem big_any (a : Option Addr) (len cap : Nat) (w : World) (hl : len ≤ maxLen) :
    Calls Tryd.prog 5 #[.slice a len cap] w fun e w' => e = .returned (.bool (decide ((1048576 : Int) < (len : Int)))) ∧ w' = w := by
  go_enter Tryd.func5, Tryd.ntmps5
  go_wp2
  go_ret
  exact ⟨rfl, rfl⟩

end Go.Proofs.YtckpacifimpkgadDoor

namespace Go.Proofs.YtckpacifimpkgadDoor
open Go.RowKit
set_option linter.unusedVariables false

set_option maxRecDepth 10000 in
set_option maxHeartbeats 6400000 in
theorem lawGathered_any (a : Option Addr) (len cap : Nat) (zs : List Int) (w : World) (hm : len ≤ maxLen) (hs : Seg w a len zs) (he : ErrT w) :
    Calls Tryd.prog 4 #[.slice a len cap] w fun e w' => e = .returned (.bool true) ∧ Below w.heap.size w w' := by
  have HS : Hid (Seg w a len zs) := hs
  have HEr : Hid (ErrT w) := he
  clear hs he
  by_cases hbig : (1048576 : Int) < (len : Int)
  · have hd : Hid (decide ((1048576 : Int) < (len : Int)) = true) := by show _ = _; simpa using hbig
    go_enter Tryd.func4, Tryd.ntmps4
    go_wp2_with fail
    refine (big_any a len cap w hm).mono ?_
    rintro e w1 ⟨rfl, hw1⟩
    subst w1
    rw [hd.out]
    go_wp2_with fail
    go_ret
    exact ⟨rfl, Below.refl _ _⟩
  have hd : Hid (decide ((1048576 : Int) < (len : Int)) = false) := by show _ = _; simpa using hbig
  have hl : len ≤ 1099511627776 := by omega
  clear hbig
  go_enter Tryd.func4, Tryd.ntmps4
  go_wp2_with fail
  refine (big_any a len cap w hm).mono ?_
  rintro e w1 ⟨rfl, hw1⟩
  subst w1
  rw [hd.out]
  go_wp2_with fail
  refine (drawFeed_any a len cap zs w HS.out hl).mono ?_
  rintro e x2 ⟨s, en, A, n, cp, zg, k, f, fs, g, m, cb, ys, rfl, hn, hm1, hcb, hsg, hsf, hb2⟩
  have HCb : Hid (m ≤ cb) := hcb
  obtain ⟨x3, hx3⟩ : ∃ x3, (x2.alloc (.cells #[.int .i64 s, .bool en, .slice A n cp] 30)).alloc (.cells #[.int .i64 k, .int .i64 f, .int .i64 fs, .slice (some ⟨g, 0, none⟩) m cb] 33) = x3 := ⟨_, rfl⟩
  have HE3 : Hid ((x2.alloc (.cells #[.int .i64 s, .bool en, .slice A n cp] 30)).alloc (.cells #[.int .i64 k, .int .i64 f, .int .i64 fs, .slice (some ⟨g, 0, none⟩) m cb] 33) = x3) := hx3
  have hb23 : Below x2.heap.size x2 x3 := by rw [← hx3]; exact ((Below.refl _ _).alloc (Nat.le_refl _) _).alloc (by simp) _
  have hq1 : Box3 x3 x2.heap.size 30 (.int .i64 s) (.bool en) (.slice A n cp) := by rw [← hx3]; exact (Box3.new _ _ _ _ _).alloc _
  have hq2 : Box4 x3 (x2.heap.size + 1) 33 (.int .i64 k) (.int .i64 f) (.int .i64 fs) (.slice (some ⟨g, 0, none⟩) m cb) := by
    rw [← hx3]
    have := Box4.new (x2.alloc (.cells #[.int .i64 s, .bool en, .slice A n cp] 30)) 33 (.int .i64 k) (.int .i64 f) (.int .i64 fs) (.slice (some ⟨g, 0, none⟩) m cb)
    rwa [World.size_alloc] at this
  have HQ : Hid (∀ W, Below x3.heap.size x3 W → Box3 W x2.heap.size 30 (.int .i64 s) (.bool en) (.slice A n cp) ∧ Box4 W (x2.heap.size + 1) 33 (.int .i64 k) (.int .i64 f) (.int .i64 fs) (.slice (some ⟨g, 0, none⟩) m cb) ∧ Seg W A n zg ∧ Seg W (some ⟨g, 0, none⟩) m ys ∧ Below w.heap.size w W ∧ ErrT W) := fun W h => by
    have h2 : Below x2.heap.size x2 W := hb23.trans (h.mono hb23.size)
    have h3 : Below w.heap.size w W := hb2.trans (h2.mono hb2.size)
    exact ⟨hq1.stays h, hq2.stays h, hsg.below h2, hsf.below h2, h3, errT_below HEr.out h3⟩
  obtain ⟨S, EN, Z1, Z2, C, hR⟩ : ∃ S EN Z1 Z2 C, feedR s en zg k f fs ys = ((S, EN, Z1), Z2, C) := ⟨_, _, _, _, _, rfl⟩
  have HR : Hid (feedR s en zg k f fs ys = ((S, EN, Z1), Z2, C)) := hR
  have HSay := hidden (feedR_says hR)
  obtain ⟨L1, hL1⟩ : ∃ L1, Z1.length = L1 := ⟨_, rfl⟩
  obtain ⟨L2, hL2⟩ : ∃ L2, Z2.length = L2 := ⟨_, rfl⟩
  have HL1 : Hid (Z1.length = L1) := hL1
  have HL2 : Hid (Z2.length = L2) := hL2
  have HZg : Hid (zg.length = n) := hsg.1
  have hne : (C != C) = false := by simp
  clear hcb hsg hsf hb2 hx3 hb23 hq1 hq2 hR hL1 hL2 HS HEr
  go_upto_region 4 with fail
  rw [HE3.out]
  clear HE3
  generalize x2.heap.size = b3 at *
  obtain ⟨c0, c1, c2⟩ := (HQ.out _ (Below.refl _ _)).1.cells
  obtain ⟨d0, d1, d2, d3⟩ := (HQ.out _ (Below.refl _ _)).2.1.cells
  go_wp2_with fail
  refine (implFeed_any s en A n cp zg k f fs (some ⟨g, 0, none⟩) m cb ys _ (HQ.out _ (Below.refl _ _)).2.2.1 (HQ.out _ (Below.refl _ _)).2.2.2.1 ⟨_, rfl⟩ HCb.out (by omega) (by omega) (HQ.out _ (Below.refl _ _)).2.2.2.2.2 ((S, EN, Z1), Z2, C) HR.out L1 L2 HL1.out HL2.out).mono ?_
  rintro e x4 ⟨wa, cw, wb, cwb, rfl, ow1, ow2, hpt, hb4⟩
  obtain ⟨x5, hx5⟩ : ∃ x5, x4.alloc (.cells #[.int .i64 S, .bool EN, .slice wa L1 cw] 30) = x5 := ⟨_, rfl⟩
  have HE5 : Hid (x4.alloc (.cells #[.int .i64 S, .bool EN, .slice wa L1 cw] 30) = x5) := hx5
  have hb45 : Below x4.heap.size x4 x5 := by rw [← hx5]; exact (Below.refl _ _).alloc (Nat.le_refl _) _
  have HB5 : Hid (Below x3.heap.size x3 x5) := hb4.trans (hb45.mono hb4.size)
  have HN5 : Hid (Box3 x5 x4.heap.size 30 (.int .i64 S) (.bool EN) (.slice wa L1 cw)) := by show Box3 _ _ _ _ _ _; rw [← hx5]; exact Box3.new _ _ _ _ _
  have HO5 : Hid (Seg x5 wa L1 Z1) := ow1.seg.below hb45
  clear hx5 hb45 ow1 ow2 hpt hb4 c0 c1 c2 d0 d1 d2 d3
  go_upto_region 5 with fail
  rw [HE5.out]
  clear HE5
  generalize x4.heap.size = b5 at *
  obtain ⟨c0, c1, c2⟩ := (HQ.out _ HB5.out).1.cells
  obtain ⟨d0, d1, d2, d3⟩ := (HQ.out _ HB5.out).2.1.cells
  go_wp2_with fail
  refine (specFeed_any s en A n cp zg k f fs g 0 m cb ys _ (HQ.out _ HB5.out).2.2.1 (HQ.out _ HB5.out).2.2.2.1 HCb.out (by omega) (by omega) ((S, EN, Z1), Z2, C) HR.out L1 L2 HL1.out HL2.out).mono ?_
  rintro e x6 ⟨va, cv, vb, cvb, rfl, _, _, _, hb6⟩
  obtain ⟨x7, hx7⟩ : ∃ x7, x6.alloc (.cells #[.int .i64 S, .bool EN, .slice va L1 cv] 30) = x7 := ⟨_, rfl⟩
  have HE7 : Hid (x6.alloc (.cells #[.int .i64 S, .bool EN, .slice va L1 cv] 30) = x7) := hx7
  have hb57 : Below x5.heap.size x5 x7 := by rw [← hx7]; exact hb6.alloc hb6.size _
  have HB7 : Hid (Below x3.heap.size x3 x7) := HB5.out.trans (hb57.mono HB5.out.size)
  have HN7 : Hid (Box3 x7 b5 30 (.int .i64 S) (.bool EN) (.slice wa L1 cw)) := HN5.out.stays hb57
  have HO7 : Hid (Seg x7 wa L1 Z1) := HO5.out.below hb57
  clear hx7 hb57 hb6 c0 c1 c2 d0 d1 d2 d3 HN5 HO5 HB5
  go_upto_region 6 with fail
  rw [HE7.out]
  clear HE7
  obtain ⟨c0, c1, c2⟩ := (HQ.out _ HB7.out).1.cells
  obtain ⟨d0, d1, d2⟩ := HN7.out.cells
  rcases HSay.out with ⟨rfl, hok, hz2⟩ | ⟨rfl, hS, hZ1, hle⟩ | ⟨hC0, hC1, hS, hZ1, hz2⟩
  · have hL2 : L2 = 0 := by rw [← HL2.out, hz2]; rfl
    have HOk : Hid (okG S EN L1 = true) := by show _ = _; rw [← HL1.out]; exact hok
    rw [hL2]
    clear hok hz2 hL2 HSay HR HL2 HL1
    go_wp2_with fail
    refine (implGok_any S EN wa L1 cw _).mono ?_
    rintro e x8 ⟨rfl, hb8⟩
    rw [HOk.out]
    have HF : Hid (Below w.heap.size w x8) := (HQ.out _ (HB7.out.trans (hb8.mono HB7.out.size))).2.2.2.2.1
    clear hb8 c0 c1 c2 d0 d1 d2
    go_wp2_with fail
    go_ret
    exact ⟨rfl, HF.out⟩
  · have hL1 : L1 = 0 := by rw [← HL1.out, hZ1]; rfl
    have hL2 : L2 ≤ 3000 := by rw [← HL2.out]; exact hle
    have HF : Hid (Below w.heap.size w x7) := (HQ.out _ HB7.out).2.2.2.2.1
    rw [hS] at d0
    rw [hL1] at d2
    have hi1 : (L2 : Int) ≤ 3000 := by omega
    clear hS hZ1 hle hL1 HSay HR HL2 HL1
    go_wp2_with fail
    go_ret
    exact ⟨rfl, HF.out⟩
  · have hL2 : L2 = 0 := by rw [← HL2.out, hz2]; rfl
    have hL1 : L1 = n := by rw [← HL1.out, hZ1]; exact HZg.out
    have HA : Hid (Seg x7 wa n zg) := by have h := HO7.out; rw [hL1, hZ1] at h; exact h
    rw [hS] at d0
    rw [hL1] at d2
    rw [hL2]
    have b0 : (C == 0) = false := by simpa using hC0
    have b1 : (C == 1) = false := by simpa using hC1
    clear hS hZ1 hz2 hL1 hL2 HSay HR HL2 HL1 hC0 hC1 HO7
    go_wp2_with fail
    refine (sameB_same wa A n cw cp zg _ HA.out (HQ.out _ HB7.out).2.2.1 (by omega)).mono ?_
    rintro e x8 ⟨rfl, m8, rfl⟩
    have HF : Hid (Below w.heap.size w (x7.drewN m8)) := Still.below ⟨m8, rfl⟩ (HQ.out _ HB7.out).2.2.2.2.1
    clear c0 c1 c2 d0 d1 d2
    go_wp2_with fail
    go_ret
    exact ⟨rfl, HF.out⟩

end Go.Proofs.YtckpacifimpkgadDoor
