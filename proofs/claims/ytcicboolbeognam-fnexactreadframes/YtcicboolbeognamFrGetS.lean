/- What the specification's GetFrame answers, in memory of its own; nothing that was there is written. -/
import Derived.Test.YtcicboolbeognamFrGet
import Derived.Deep.Cut
namespace Go.Proofs.Ytcicboolbeognam
open Go.RowKit
set_option linter.unusedVariables false

set_option maxHeartbeats 1600000 in
theorem specGetF_shortA (a : Option Addr) (len cap : Nat) (at_ : Int) (zs : List Int) (w : World) (hs : Seg w a len zs) (hl : len ≤ 1099511627776) (ha0 : -9223372036854775808 ≤ at_) (ha1 : at_ ≤ 9223372036854775807) (h : ¬ (0 ≤ at_ ∧ at_ + 3 ≤ (len : Int))) :
    Calls Try.prog 18 #[.slice a len cap, .int .i64 at_] w fun e w' => ∃ a' cap', e = .returned (.tuple #[.agg #[.int .i64 0, .int .i64 0, .int .i64 0, .slice a' 0 cap'], .int .i64 at_, .int .i64 1]) ∧ Owns w' w.heap.size a' 0 cap' [] ∧ Below w.heap.size w w' := by
  have HS : Hid (Seg w a len zs) := hs
  clear hs
  have HH : Hid (¬ (0 ≤ at_ ∧ at_ + 3 ≤ (len : Int))) := h
  clear h
  have HB0 : Hid (Below w.heap.size w (w.alloc (.cells #[.int .i64 0, .int .i64 0, .int .i64 0, .slice none 0 0] 27))) := (Below.refl _ _).alloc (Nat.le_refl _) _
  have HX0 : Hid (Box4 (w.alloc (.cells #[.int .i64 0, .int .i64 0, .int .i64 0, .slice none 0 0] 27)) w.heap.size 27 (.int .i64 0) (.int .i64 0) (.int .i64 0) (.slice none 0 0)) := Box4.new _ _ _ _ _ _
  go_enter Try.func18, Try.ntmps18
  go_wp2_with fail
  refine (specGet_no a len cap at_ 3 _ hl ⟨ha0, ha1⟩ (by omega) (by have := HH.out; omega)).mono ?_
  rintro e x0 ⟨rfl, rfl⟩
  obtain ⟨x0, hx0⟩ : ∃ x0, w.alloc (.cells #[.int .i64 0, .int .i64 0, .int .i64 0, .slice none 0 0] 27) = x0 := ⟨_, rfl⟩
  rw [hx0] at HB0 HX0 ⊢
  clear hx0
  obtain ⟨c0, c1, c2, c3⟩ := HX0.out.cells
  have f0 := HX0.out.frozen 0
  have f1 := HX0.out.frozen 1
  have f2 := HX0.out.frozen 2
  have f3 := HX0.out.frozen 3
  go_wp2_with fail
  refine (specGet_any a len cap (wrap64 (at_ + 5)) 4 zs _ (HS.out.below HB0.out) hl (by unfold wrap64; omega) (by omega)).mono ?_
  rintro e x1 ⟨rfl, rfl⟩
  obtain ⟨q, r⟩ := gbr zs (wrap64 (at_ + 5)) 4
  go_wp2_with fail
  refine bodyPost_ret (v := .tuple #[.agg #[.int .i64 0, .int .i64 0, .int .i64 0, .slice none 0 0], .int .i64 at_, .int .i64 1]) (by simp [results, Try.f18, go_sem, c0, c1, c2, c3]) rfl ?_
  exact ⟨none, 0, rfl, ⟨⟨rfl, .inl ⟨rfl, rfl⟩⟩, by simp⟩, (((HB0.out.setCell (Nat.le_refl _) _).setCell (Nat.le_refl _) _).setCell (Nat.le_refl _) _).setCell (Nat.le_refl _) _⟩

set_option maxHeartbeats 1600000 in
theorem specGetF_shortB (a : Option Addr) (len cap T : Nat) (zs : List Int) (w : World) (hs : Seg w a len zs) (hl : len ≤ 1099511627776) (hT : T + 3 ≤ len) (hT2 : len < T + 9) :
    Calls Try.prog 18 #[.slice a len cap, .int .i64 (T : Int)] w fun e w' => ∃ a' cap', e = .returned (.tuple #[.agg #[.int .i64 0, .int .i64 0, .int .i64 0, .slice a' 0 cap'], .int .i64 (T : Int), .int .i64 1]) ∧ Owns w' w.heap.size a' 0 cap' [] ∧ Below w.heap.size w w' := by
  have HS : Hid (Seg w a len zs) := hs
  clear hs
  have HB0 : Hid (Below w.heap.size w (w.alloc (.cells #[.int .i64 0, .int .i64 0, .int .i64 0, .slice none 0 0] 27))) := (Below.refl _ _).alloc (Nat.le_refl _) _
  have HX0 : Hid (Box4 (w.alloc (.cells #[.int .i64 0, .int .i64 0, .int .i64 0, .slice none 0 0] 27)) w.heap.size 27 (.int .i64 0) (.int .i64 0) (.int .i64 0) (.slice none 0 0)) := Box4.new _ _ _ _ _ _
  go_enter Try.func18, Try.ntmps18
  go_wp2_with fail
  refine (specGet_yes a len cap T 3 zs _ (HS.out.below HB0.out) hl (by omega) (by omega) hT).mono ?_
  rintro e x0 ⟨rfl, rfl⟩
  generalize gb ((zs.drop T).take 3) = q
  obtain ⟨x0, hx0⟩ : ∃ x0, w.alloc (.cells #[.int .i64 0, .int .i64 0, .int .i64 0, .slice none 0 0] 27) = x0 := ⟨_, rfl⟩
  rw [hx0] at HB0 HX0 ⊢
  clear hx0
  obtain ⟨c0, c1, c2, c3⟩ := HX0.out.cells
  have f0 := HX0.out.frozen 0
  have f1 := HX0.out.frozen 1
  have f2 := HX0.out.frozen 2
  have f3 := HX0.out.frozen 3
  go_wp2_with fail
  refine (specGet_no a len cap _ 4 _ hl (by omega) (by omega) (by omega)).mono ?_
  rintro e x1 ⟨rfl, rfl⟩
  go_wp2_with fail
  refine bodyPost_ret (v := .tuple #[.agg #[.int .i64 0, .int .i64 0, .int .i64 0, .slice none 0 0], .int .i64 (T : Int), .int .i64 1]) (by simp [results, Try.f18, go_sem, c0, c1, c2, c3]) rfl ?_
  exact ⟨none, 0, rfl, ⟨⟨rfl, .inl ⟨rfl, rfl⟩⟩, by simp⟩, (((HB0.out.setCell (Nat.le_refl _) _).setCell (Nat.le_refl _) _).setCell (Nat.le_refl _) _).setCell (Nat.le_refl _) _⟩

set_option maxHeartbeats 1600000 in
theorem specGetF_long (a : Option Addr) (len cap T n : Nat) (zs : List Int) (w : World) (hs : Seg w a len zs) (hcap : len ≤ cap) (hl : len ≤ 1099511627776) (hT : T + 9 ≤ len) (hn : frLen zs T = (n : Int)) (h : 1000 < n) (hnb : n ≤ 281474976710656) :
    Calls Try.prog 18 #[.slice a len cap, .int .i64 (T : Int)] w fun e w' => ∃ a' cap', e = .returned (.tuple #[.agg #[.int .i64 0, .int .i64 0, .int .i64 0, .slice a' 0 cap'], .int .i64 (T : Int), .int .i64 2]) ∧ Owns w' w.heap.size a' 0 cap' [] ∧ Below w.heap.size w w' := by
  have HN : Hid (frLen zs T = (n : Int)) := hn
  clear hn
  have HS : Hid (Seg w a len zs) := hs
  clear hs
  have HB0 : Hid (Below w.heap.size w (w.alloc (.cells #[.int .i64 0, .int .i64 0, .int .i64 0, .slice none 0 0] 27))) := (Below.refl _ _).alloc (Nat.le_refl _) _
  have HX0 : Hid (Box4 (w.alloc (.cells #[.int .i64 0, .int .i64 0, .int .i64 0, .slice none 0 0] 27)) w.heap.size 27 (.int .i64 0) (.int .i64 0) (.int .i64 0) (.slice none 0 0)) := Box4.new _ _ _ _ _ _
  obtain ⟨st, hst⟩ : ∃ st, gb ((zs.drop (T + 5)).take 4) = st := ⟨_, rfl⟩
  have HST : Hid (gb ((zs.drop (T + 5)).take 4) = st) := hst
  clear hst
  go_enter Try.func18, Try.ntmps18
  go_wp2_with fail
  refine (specGet_yes a len cap T 3 zs _ (HS.out.below HB0.out) hl (by omega) (by omega) (by omega)).mono ?_
  rintro e x0 ⟨rfl, rfl⟩
  rw [show gb ((zs.drop T).take 3) = (n : Int) from HN.out]
  obtain ⟨x0, hx0⟩ : ∃ x0, w.alloc (.cells #[.int .i64 0, .int .i64 0, .int .i64 0, .slice none 0 0] 27) = x0 := ⟨_, rfl⟩
  rw [hx0] at HB0 HX0 ⊢
  clear hx0
  obtain ⟨c0, c1, c2, c3⟩ := HX0.out.cells
  have f0 := HX0.out.frozen 0
  have f1 := HX0.out.frozen 1
  have f2 := HX0.out.frozen 2
  have f3 := HX0.out.frozen 3
  go_wp2_with fail
  have hG := specGet_yes a len cap (T + 5) 4 zs x0 (HS.out.below HB0.out) hl (by omega) (by omega) (by omega)
  rw [HST.out, show ((T + 5 : Nat) : Int) = (T : Int) + 5 by omega] at hG
  refine hG.mono ?_
  rintro e x1 ⟨rfl, rfl⟩
  clear hG
  have hni : (1000 : Int) < (n : Int) := by omega
  go_wp2_with fail
  refine bodyPost_ret (v := .tuple #[.agg #[.int .i64 0, .int .i64 0, .int .i64 0, .slice none 0 0], .int .i64 (T : Int), .int .i64 2]) (by simp [results, Try.f18, go_sem, c0, c1, c2, c3]) rfl ?_
  exact ⟨none, 0, rfl, ⟨⟨rfl, .inl ⟨rfl, rfl⟩⟩, by simp⟩, (((HB0.out.setCell (Nat.le_refl _) _).setCell (Nat.le_refl _) _).setCell (Nat.le_refl _) _).setCell (Nat.le_refl _) _⟩

set_option maxHeartbeats 1600000 in
theorem specGetF_cut (a : Option Addr) (len cap T n : Nat) (zs : List Int) (w : World) (hs : Seg w a len zs) (hcap : len ≤ cap) (hl : len ≤ 1099511627776) (hT : T + 9 ≤ len) (hn : frLen zs T = (n : Int)) (h : n ≤ 1000) (hc : len < T + 9 + n) :
    Calls Try.prog 18 #[.slice a len cap, .int .i64 (T : Int)] w fun e w' => ∃ a' cap', e = .returned (.tuple #[.agg #[.int .i64 0, .int .i64 0, .int .i64 0, .slice a' 0 cap'], .int .i64 (T : Int), .int .i64 1]) ∧ Owns w' w.heap.size a' 0 cap' [] ∧ Below w.heap.size w w' := by
  have HN : Hid (frLen zs T = (n : Int)) := hn
  clear hn
  have HS : Hid (Seg w a len zs) := hs
  clear hs
  have HB0 : Hid (Below w.heap.size w (w.alloc (.cells #[.int .i64 0, .int .i64 0, .int .i64 0, .slice none 0 0] 27))) := (Below.refl _ _).alloc (Nat.le_refl _) _
  have HX0 : Hid (Box4 (w.alloc (.cells #[.int .i64 0, .int .i64 0, .int .i64 0, .slice none 0 0] 27)) w.heap.size 27 (.int .i64 0) (.int .i64 0) (.int .i64 0) (.slice none 0 0)) := Box4.new _ _ _ _ _ _
  obtain ⟨st, hst⟩ : ∃ st, gb ((zs.drop (T + 5)).take 4) = st := ⟨_, rfl⟩
  have HST : Hid (gb ((zs.drop (T + 5)).take 4) = st) := hst
  clear hst
  go_enter Try.func18, Try.ntmps18
  go_wp2_with fail
  refine (specGet_yes a len cap T 3 zs _ (HS.out.below HB0.out) hl (by omega) (by omega) (by omega)).mono ?_
  rintro e x0 ⟨rfl, rfl⟩
  rw [show gb ((zs.drop T).take 3) = (n : Int) from HN.out]
  obtain ⟨x0, hx0⟩ : ∃ x0, w.alloc (.cells #[.int .i64 0, .int .i64 0, .int .i64 0, .slice none 0 0] 27) = x0 := ⟨_, rfl⟩
  rw [hx0] at HB0 HX0 ⊢
  clear hx0
  obtain ⟨c0, c1, c2, c3⟩ := HX0.out.cells
  have f0 := HX0.out.frozen 0
  have f1 := HX0.out.frozen 1
  have f2 := HX0.out.frozen 2
  have f3 := HX0.out.frozen 3
  go_wp2_with fail
  have hG := specGet_yes a len cap (T + 5) 4 zs x0 (HS.out.below HB0.out) hl (by omega) (by omega) (by omega)
  rw [HST.out, show ((T + 5 : Nat) : Int) = (T : Int) + 5 by omega] at hG
  refine hG.mono ?_
  rintro e x1 ⟨rfl, rfl⟩
  clear hG
  have hni : (n : Int) ≤ 1000 := by omega
  have hnc : (len : Int) - T - 9 < n := by omega
  go_wp2_with fail
  refine bodyPost_ret (v := .tuple #[.agg #[.int .i64 0, .int .i64 0, .int .i64 0, .slice none 0 0], .int .i64 (T : Int), .int .i64 1]) (by simp [results, Try.f18, go_sem, c0, c1, c2, c3]) rfl ?_
  exact ⟨none, 0, rfl, ⟨⟨rfl, .inl ⟨rfl, rfl⟩⟩, by simp⟩, (((HB0.out.setCell (Nat.le_refl _) _).setCell (Nat.le_refl _) _).setCell (Nat.le_refl _) _).setCell (Nat.le_refl _) _⟩

set_option maxRecDepth 10000 in
set_option maxHeartbeats 1600000 in
theorem specGetF_yes (a : Option Addr) (len cap T n : Nat) (zs : List Int) (w : World) (hs : Seg w a len zs) (hcap : len ≤ cap) (hl : len ≤ 1099511627776) (hT : T + 9 ≤ len) (hn : frLen zs T = (n : Int)) (h : n ≤ 1000) (hc : T + 9 + n ≤ len) :
    Calls Try.prog 18 #[.slice a len cap, .int .i64 (T : Int)] w fun e w' => ∃ a' cap', e = .returned (.tuple #[.agg #[.int .i64 (zs.getD (T + 3) 0), .int .i64 (zs.getD (T + 4) 0), .int .i64 (frStream zs T), .slice a' n cap'], .int .i64 ((T : Int) + 9 + n), .int .i64 0]) ∧ Owns w' w.heap.size a' n cap' ((zs.drop (T + 9)).take n) ∧ Below w.heap.size w w' := by
  obtain ⟨i0, hi, hz0, hz1, hz2⟩ := info_parts Try.info5
  have hfs : frStream zs T = bits BinOp.and IntKind.i64 (gb ((zs.drop (T + 5)).take 4)) 2147483647 := rfl
  rw [hfs]
  clear hfs
  obtain ⟨b, off, rfl, hbl, hcc⟩ : ∃ b off, a = some ⟨b, off, none⟩ ∧ b < w.heap.size ∧ ∀ i, i < len → w.cell? ⟨b, off + i, none⟩ = some (.int .u8 (zs.getD i 0)) := by
    rcases hs.2.2 with h | h
    · omega
    · exact h
  have hc3 := hcc (T + 3) (by omega)
  have hc4 := hcc (T + 4) (by omega)
  have hr3 := hs.range (T + 3)
  have hr4 := hs.range (T + 4)
  clear hcc
  obtain ⟨p3, hp3⟩ : ∃ p, zs.getD (T + 3) 0 = p := ⟨_, rfl⟩
  obtain ⟨p4, hp4⟩ : ∃ p, zs.getD (T + 4) 0 = p := ⟨_, rfl⟩
  rw [hp3] at hc3 hr3 ⊢
  rw [hp4] at hc4 hr4 ⊢
  clear hp3 hp4
  obtain ⟨hr30, hr31⟩ := hr3
  obtain ⟨hr40, hr41⟩ := hr4
  have hw3 : IntKind.i64.wrap p3 = p3 := by rw [IntKind.wrap_i64]; omega
  have hw4 : IntKind.i64.wrap p4 = p4 := by rw [IntKind.wrap_i64]; omega
  obtain ⟨st, hst⟩ : ∃ st, gb ((zs.drop (T + 5)).take 4) = st := ⟨_, rfl⟩
  have HST : Hid (gb ((zs.drop (T + 5)).take 4) = st) := hst
  rw [hst]
  clear hst
  obtain ⟨sm, hsm⟩ : ∃ sm, bits BinOp.and IntKind.i64 st 2147483647 = sm := ⟨_, rfl⟩
  rw [hsm]
  have HN : Hid (frLen zs T = (n : Int)) := hn
  clear hn
  have HS : Hid (Seg w (some ⟨b, off, none⟩) len zs) := hs
  clear hs
  have HB0 : Hid (Below w.heap.size w (w.alloc (.cells #[.int .i64 0, .int .i64 0, .int .i64 0, .slice none 0 0] 27))) := (Below.refl _ _).alloc (Nat.le_refl _) _
  have HX0 : Hid (Box4 (w.alloc (.cells #[.int .i64 0, .int .i64 0, .int .i64 0, .slice none 0 0] 27)) w.heap.size 27 (.int .i64 0) (.int .i64 0) (.int .i64 0) (.slice none 0 0)) := Box4.new _ _ _ _ _ _
  go_enter Try.func18, Try.ntmps18
  go_wp2_with fail
  refine (specGet_yes (some ⟨b, off, none⟩) len cap T 3 zs _ (HS.out.below HB0.out) hl (by omega) (by omega) (by omega)).mono ?_
  rintro e x0 ⟨rfl, rfl⟩
  rw [show gb ((zs.drop T).take 3) = (n : Int) from HN.out]
  obtain ⟨x0, hx0⟩ : ∃ x0, w.alloc (.cells #[.int .i64 0, .int .i64 0, .int .i64 0, .slice none 0 0] 27) = x0 := ⟨_, rfl⟩
  rw [hx0] at HB0 HX0 ⊢
  clear hx0
  obtain ⟨c0, c1, c2, c3⟩ := HX0.out.cells
  have f0 := HX0.out.frozen 0
  have f1 := HX0.out.frozen 1
  have f2 := HX0.out.frozen 2
  have f3 := HX0.out.frozen 3
  go_wp2_with fail
  have hG := specGet_yes (some ⟨b, off, none⟩) len cap (T + 5) 4 zs x0 (HS.out.below HB0.out) hl (by omega) (by omega) (by omega)
  rw [HST.out, show ((T + 5 : Nat) : Int) = (T : Int) + 5 by omega] at hG
  refine hG.mono ?_
  rintro e x1 ⟨rfl, rfl⟩
  clear hG
  have hni : (n : Int) ≤ 1000 := by omega
  have hnc : ¬ (len : Int) - T - 9 < n := by omega
  obtain ⟨Q3, hQ3⟩ : ∃ Q3, Q3 = T + 3 := ⟨_, rfl⟩
  obtain ⟨Q4, hQ4⟩ : ∃ Q4, Q4 = T + 4 := ⟨_, rfl⟩
  have k3 : x1.cell? ⟨b, off + Q3, none⟩ = some (.int .u8 p3) := (HB0.out.cell (p := ⟨b, _, none⟩) hbl).trans (by rw [hQ3]; exact hc3)
  have k4 : x1.cell? ⟨b, off + Q4, none⟩ = some (.int .u8 p4) := (HB0.out.cell (p := ⟨b, _, none⟩) hbl).trans (by rw [hQ4]; exact hc4)
  have hlt : w.heap.size < x1.heap.size := HX0.out.lt
  have hlta : ¬ b = x1.heap.size := by omega
  have hq30 : (0 : Int) ≤ (Q3 : Int) := by omega
  have hq31 : (Q3 : Int) < (len : Int) := by omega
  have hq40 : (0 : Int) ≤ (Q4 : Int) := by omega
  have hq41 : (Q4 : Int) < (len : Int) := by omega
  have hqw3 : IntKind.i64.wrap ((T : Int) + 3) = (Q3 : Int) := by rw [IntKind.wrap_i64]; omega
  have hqw4 : IntKind.i64.wrap ((T : Int) + 4) = (Q4 : Int) := by rw [IntKind.wrap_i64]; omega
  clear hc3 hc4 hQ3 hQ4
  go_upto_region 9 with fail
  go_region_held3 (fun W => W.cell? ⟨b, off + Q3, none⟩ = some (.int .u8 p3) ∧ W.cell? ⟨b, off + Q4, none⟩ = some (.int .u8 p4)) (first | (refine ⟨?_, ?_⟩ <;> assumption) | go_keep) (fail)
  obtain ⟨x2, hx2⟩ : ∃ x2, (x1.alloc (.cells #[.int .i64 p3, .int .i64 p4, .int .i64 sm, .slice none 0 0] 27)).drew = x2 := ⟨_, rfl⟩
  have hb12 : Below x1.heap.size x1 x2 := by rw [← hx2]; exact ((Below.refl _ _).alloc (Nat.le_refl _) _).drew
  have HB2 : Hid (Below w.heap.size w x2) := HB0.out.trans (hb12.mono (Nat.le_of_lt hlt))
  have HX2 : Hid (Box4 x2 w.heap.size 27 (.int .i64 0) (.int .i64 0) (.int .i64 0) (.slice none 0 0)) := HX0.out.stays hb12
  have HF2 : Hid (Box4 x2 x1.heap.size 27 (.int .i64 p3) (.int .i64 p4) (.int .i64 sm) (.slice none 0 0)) := by show Box4 _ _ _ _ _ _ _; rw [← hx2]; exact Box4.new x1 _ _ _ _ _
  have HO2 : Hid ((x2.alloc (.cells #[] 5)).ownsRow x2.heap.size 5 1 (.slice (some ⟨x2.heap.size, 0, none⟩) 0 0) 0 []) := World.ownsRow_lit x2 #[] 0 (Nat.le_refl _) (Nat.zero_le _) rfl
  have hne1 : ¬ w.heap.size = x1.heap.size := by omega
  have hne2 : ¬ x1.heap.size = w.heap.size := by omega
  have HBh : Hid (∀ W, Below w.heap.size w W → Seg W (some ⟨b, off, none⟩) len zs) := fun W hW => HS.out.below hW
  rw [hx2]
  clear hx2 hb12 k3 k4 hq30 hq31 hq40 hq41 hqw3 hqw4
  by_cases hn0 : n = 0
  case pos =>
    subst hn0
    by_cases hcp : cap = T + 9
    case pos =>
      subst hcp
      go_wp2_with (at_builtin; refine wpList_append_own _ rfl _ _ 22 rfl x2.heap.size 5 i0 (.int .u8 0) 1 1 Try.underlying22 hi hz0 hz1 hz2 rfl (by decide) (.slice (some ⟨x2.heap.size, 0, none⟩) 0 0) 0 [] rfl HO2.out ⟨b, off, none⟩ 0 _ (((zs.drop (T + 9)).take 0).map (Value.int .u8)) rfl (by simp) (by simp) (ints_one ((zs.drop (T + 9)).take 0)) (by unfold maxLen; omega) (by omega) (by simp) ?_; intro v3 x3 hown3 hgrow3 _; refine Hid.out ?_)
      refine hidden ?_
      obtain ⟨a3, c3', rfl⟩ := shape_of_owns hown3
      have HO3 : Hid (x3.ownsRow x2.heap.size 5 1 (.slice a3 (0 + 0) c3') (0 + 0) (((zs.drop (T + 9)).take 0).map (Value.int .u8))) := by
        show World.ownsRow _ _ _ _ _ _ _
        simpa using hown3
      have hb23 : Below x2.heap.size x2 x3 := ((Below.refl _ _).alloc (Nat.le_refl _) _).grown hgrow3 (by simp) (by simp [Value.ownBlock])
      have HB3 : Hid (Below w.heap.size w x3) := HB2.out.trans (hb23.mono HB2.out.size)
      have HF3 : Hid (Box4 x3 x1.heap.size 27 (.int .i64 p3) (.int .i64 p4) (.int .i64 sm) (.slice none 0 0)) := HF2.out.stays hb23
      have HX3 : Hid (Box4 x3 w.heap.size 27 (.int .i64 0) (.int .i64 0) (.int .i64 0) (.slice none 0 0)) := HX2.out.stays hb23
      have hlt2 : x1.heap.size < x2.heap.size := HF2.out.lt
      clear hown3 hgrow3 hb23 c0 c1 c2 c3 f0 f1 f2 f3
      obtain ⟨c0, c1, c2, c3⟩ := HX3.out.cells
      have f0 := HX3.out.frozen 0
      have f1 := HX3.out.frozen 1
      have f2 := HX3.out.frozen 2
      have f3 := HX3.out.frozen 3
      obtain ⟨d0, d1, d2, d3⟩ := HF3.out.cells
      have g3 := HF3.out.frozen 3
      go_wp2_with fail
      refine bodyPost_ret (v := .tuple #[.agg #[.int .i64 p3, .int .i64 p4, .int .i64 sm, .slice a3 (0 + 0) c3'], .int .i64 ((T : Int) + 9 + 0), .int .i64 0]) (by simp [results, Try.f18, go_sem, c0, c1, c2, c3]) rfl ?_
      refine ⟨_, _, (by first | (rw [Nat.zero_add]; done) | (rw [Nat.zero_add]; rfl)), ⟨own_low (base := x2.heap.size) ?_ (by omega), fun x hx => HS.out.2.1 x (List.mem_of_mem_drop (List.mem_of_mem_take hx))⟩, ?_⟩
      · have h := HO3.out
        rw [Nat.zero_add] at h
        exact ownsRow_setCell_below (ownsRow_setCell_below (ownsRow_setCell_below (ownsRow_setCell_below (ownsRow_setCell_below h (by dsimp only; omega) _) (by dsimp only; omega) _) (by dsimp only; omega) _) (by dsimp only; omega) _) (by dsimp only; omega) _
      · exact ((((HB3.out.setCell (by dsimp only; omega) _).setCell (Nat.le_refl _) _).setCell (Nat.le_refl _) _).setCell (Nat.le_refl _) _).setCell (Nat.le_refl _) _
    case neg =>
      go_wp2_with (at_builtin; refine wpList_append_own _ rfl _ _ 22 rfl x2.heap.size 5 i0 (.int .u8 0) 1 1 Try.underlying22 hi hz0 hz1 hz2 rfl (by decide) (.slice (some ⟨x2.heap.size, 0, none⟩) 0 0) 0 [] rfl HO2.out ⟨b, off + (T + 9), none⟩ 0 _ (((zs.drop (T + 9)).take 0).map (Value.int .u8)) rfl (by simp) (by simp) (ints_one ((zs.drop (T + 9)).take 0)) (by unfold maxLen; omega) (by omega) (by simp) ?_; intro v3 x3 hown3 hgrow3 _; refine Hid.out ?_)
      refine hidden ?_
      obtain ⟨a3, c3', rfl⟩ := shape_of_owns hown3
      have HO3 : Hid (x3.ownsRow x2.heap.size 5 1 (.slice a3 (0 + 0) c3') (0 + 0) (((zs.drop (T + 9)).take 0).map (Value.int .u8))) := by
        show World.ownsRow _ _ _ _ _ _ _
        simpa using hown3
      have hb23 : Below x2.heap.size x2 x3 := ((Below.refl _ _).alloc (Nat.le_refl _) _).grown hgrow3 (by simp) (by simp [Value.ownBlock])
      have HB3 : Hid (Below w.heap.size w x3) := HB2.out.trans (hb23.mono HB2.out.size)
      have HF3 : Hid (Box4 x3 x1.heap.size 27 (.int .i64 p3) (.int .i64 p4) (.int .i64 sm) (.slice none 0 0)) := HF2.out.stays hb23
      have HX3 : Hid (Box4 x3 w.heap.size 27 (.int .i64 0) (.int .i64 0) (.int .i64 0) (.slice none 0 0)) := HX2.out.stays hb23
      have hlt2 : x1.heap.size < x2.heap.size := HF2.out.lt
      clear hown3 hgrow3 hb23 c0 c1 c2 c3 f0 f1 f2 f3
      obtain ⟨c0, c1, c2, c3⟩ := HX3.out.cells
      have f0 := HX3.out.frozen 0
      have f1 := HX3.out.frozen 1
      have f2 := HX3.out.frozen 2
      have f3 := HX3.out.frozen 3
      obtain ⟨d0, d1, d2, d3⟩ := HF3.out.cells
      have g3 := HF3.out.frozen 3
      go_wp2_with fail
      refine bodyPost_ret (v := .tuple #[.agg #[.int .i64 p3, .int .i64 p4, .int .i64 sm, .slice a3 (0 + 0) c3'], .int .i64 ((T : Int) + 9 + 0), .int .i64 0]) (by simp [results, Try.f18, go_sem, c0, c1, c2, c3]) rfl ?_
      refine ⟨_, _, (by first | (rw [Nat.zero_add]; done) | (rw [Nat.zero_add]; rfl)), ⟨own_low (base := x2.heap.size) ?_ (by omega), fun x hx => HS.out.2.1 x (List.mem_of_mem_drop (List.mem_of_mem_take hx))⟩, ?_⟩
      · have h := HO3.out
        rw [Nat.zero_add] at h
        exact ownsRow_setCell_below (ownsRow_setCell_below (ownsRow_setCell_below (ownsRow_setCell_below (ownsRow_setCell_below h (by dsimp only; omega) _) (by dsimp only; omega) _) (by dsimp only; omega) _) (by dsimp only; omega) _) (by dsimp only; omega) _
      · exact ((((HB3.out.setCell (by dsimp only; omega) _).setCell (Nat.le_refl _) _).setCell (Nat.le_refl _) _).setCell (Nat.le_refl _) _).setCell (Nat.le_refl _) _
  case neg =>
    have hcp : ¬ cap = T + 9 := by omega
    have hsub : T + 9 + n - (T + 9) = n := by omega
    have HLn : Hid ((((zs.drop (T + 9)).take n).map (Value.int .u8)).length = n * 1) := by show _ = _; rw [List.length_map, List.length_take, List.length_drop, HS.out.1]; omega
    have HCe : Hid (∀ j u, (((zs.drop (T + 9)).take n).map (Value.int .u8))[j]? = some u → (x2.alloc (.cells #[] 5)).cell? ((⟨b, off + (T + 9), none⟩ : Addr).add j) = some u) := cells_ints (((HBh.out _ (HB2.out.alloc HB2.out.size _)).part (T + 9) n (by omega)))
    go_wp2_with (at_builtin; refine wpList_append_own _ rfl _ _ 22 rfl x2.heap.size 5 i0 (.int .u8 0) 1 1 Try.underlying22 hi hz0 hz1 hz2 rfl (by decide) (.slice (some ⟨x2.heap.size, 0, none⟩) 0 0) 0 [] rfl HO2.out ⟨b, off + (T + 9), none⟩ (T + 9 + n - (T + 9)) _ (((zs.drop (T + 9)).take n).map (Value.int .u8)) rfl (by rw [hsub]; exact HLn.out) HCe.out (ints_one ((zs.drop (T + 9)).take n)) (by unfold maxLen; omega) (by omega) (by simp) ?_; intro v3 x3 hown3 hgrow3 _; rw [hsub] at hown3; refine Hid.out ?_)
    refine hidden ?_
    obtain ⟨a3, c3', rfl⟩ := shape_of_owns hown3
    have HO3 : Hid (x3.ownsRow x2.heap.size 5 1 (.slice a3 (0 + n) c3') (0 + n) (((zs.drop (T + 9)).take n).map (Value.int .u8))) := by
      show World.ownsRow _ _ _ _ _ _ _
      simpa using hown3
    have hb23 : Below x2.heap.size x2 x3 := ((Below.refl _ _).alloc (Nat.le_refl _) _).grown hgrow3 (by simp) (by simp [Value.ownBlock])
    have HB3 : Hid (Below w.heap.size w x3) := HB2.out.trans (hb23.mono HB2.out.size)
    have HF3 : Hid (Box4 x3 x1.heap.size 27 (.int .i64 p3) (.int .i64 p4) (.int .i64 sm) (.slice none 0 0)) := HF2.out.stays hb23
    have HX3 : Hid (Box4 x3 w.heap.size 27 (.int .i64 0) (.int .i64 0) (.int .i64 0) (.slice none 0 0)) := HX2.out.stays hb23
    have hlt2 : x1.heap.size < x2.heap.size := HF2.out.lt
    clear hown3 hgrow3 hb23 c0 c1 c2 c3 f0 f1 f2 f3
    obtain ⟨c0, c1, c2, c3⟩ := HX3.out.cells
    have f0 := HX3.out.frozen 0
    have f1 := HX3.out.frozen 1
    have f2 := HX3.out.frozen 2
    have f3 := HX3.out.frozen 3
    obtain ⟨d0, d1, d2, d3⟩ := HF3.out.cells
    have g3 := HF3.out.frozen 3
    go_wp2_with fail
    refine bodyPost_ret (v := .tuple #[.agg #[.int .i64 p3, .int .i64 p4, .int .i64 sm, .slice a3 (0 + n) c3'], .int .i64 ((T : Int) + 9 + n), .int .i64 0]) (by simp [results, Try.f18, go_sem, c0, c1, c2, c3]) rfl ?_
    refine ⟨_, _, (by first | (rw [Nat.zero_add]; done) | (rw [Nat.zero_add]; rfl)), ⟨own_low (base := x2.heap.size) ?_ (by omega), fun x hx => HS.out.2.1 x (List.mem_of_mem_drop (List.mem_of_mem_take hx))⟩, ?_⟩
    · have h := HO3.out
      rw [Nat.zero_add] at h
      exact ownsRow_setCell_below (ownsRow_setCell_below (ownsRow_setCell_below (ownsRow_setCell_below (ownsRow_setCell_below h (by dsimp only; omega) _) (by dsimp only; omega) _) (by dsimp only; omega) _) (by dsimp only; omega) _) (by dsimp only; omega) _
    · exact ((((HB3.out.setCell (by dsimp only; omega) _).setCell (Nat.le_refl _) _).setCell (Nat.le_refl _) _).setCell (Nat.le_refl _) _).setCell (Nat.le_refl _) _

theorem specGetF_any (a : Option Addr) (len cap : Nat) (at_ : Int) (zs : List Int) (w : World) (hs : Seg w a len zs) (hcap : len ≤ cap) (hl : len ≤ 1099511627776) (ha : -9223372036854775808 ≤ at_ ∧ at_ ≤ 9223372036854775807) :
    Calls Try.prog 18 #[.slice a len cap, .int .i64 at_] w fun e w' => ∃ a' cap', e = .returned (.tuple #[.agg #[.int .i64 (getF zs at_).1, .int .i64 (getF zs at_).2.1, .int .i64 (getF zs at_).2.2.1, .slice a' (getF zs at_).2.2.2.1.length cap'], .int .i64 (getF zs at_).2.2.2.2.1, .int .i64 (getF zs at_).2.2.2.2.2]) ∧ Owns w' w.heap.size a' (getF zs at_).2.2.2.1.length cap' (getF zs at_).2.2.2.1 ∧ Below w.heap.size w w' := by
  have hz := hs.1
  by_cases h1 : 0 ≤ at_ ∧ at_ + 9 ≤ (zs.length : Int)
  · obtain ⟨T, rfl⟩ := Int.eq_ofNat_of_zero_le h1.1
    have hr := frLen_range zs T hs.2.1
    obtain ⟨n, hn⟩ := Int.eq_ofNat_of_zero_le hr.1
    have hT : T + 9 ≤ len := by omega
    by_cases h2 : 1000 < n
    · have e : getF zs T = (0, 0, 0, [], (T : Int), 2) := by
        rw [getF, if_pos h1, Int.toNat_natCast, hn, if_pos (by omega)]
      rw [e]
      exact specGetF_long a len cap T n zs w hs hcap hl hT hn h2 (by omega)
    · by_cases h3 : T + 9 + n ≤ len
      · have e : getF zs T = (zs.getD (T + 3) 0, zs.getD (T + 4) 0, frStream zs T, (zs.drop (T + 9)).take n, (T : Int) + 9 + n, 0) := by
          rw [getF, if_pos h1, Int.toNat_natCast, hn, if_neg (by omega), if_pos (by omega), Int.toNat_natCast]
        have el : ((zs.drop (T + 9)).take n).length = n := by rw [List.length_take, List.length_drop]; omega
        rw [e]
        dsimp only
        rw [el]
        exact specGetF_yes a len cap T n zs w hs hcap hl hT hn (by omega) h3
      · have e : getF zs T = (0, 0, 0, [], (T : Int), 1) := by
          rw [getF, if_pos h1, Int.toNat_natCast, hn, if_neg (by omega), if_neg (by omega)]
        rw [e]
        exact specGetF_cut a len cap T n zs w hs hcap hl hT hn (by omega) (by omega)
  · have e : getF zs at_ = (0, 0, 0, [], at_, 1) := by rw [getF, if_neg h1]
    rw [e]
    by_cases h4 : 0 ≤ at_ ∧ at_ + 3 ≤ (len : Int)
    · obtain ⟨T, rfl⟩ := Int.eq_ofNat_of_zero_le h4.1
      exact specGetF_shortB a len cap T zs w hs hl (by omega) (by omega)
    · exact specGetF_shortA a len cap at_ zs w hs hl ha.1 ha.2 h4

end Go.Proofs.Ytcicboolbeognam
