/- What the program's GetFrame answers, in memory of its own; nothing that was there is written. -/
import Derived.Test.YtcicboolbeognacFrGet
namespace Go.Proofs.Ytcicboolbeognac
open Go.RowKit
set_option linter.unusedVariables false

theorem cut_at (a : Option Addr) (len cap n T : Nat) (at_ : Int) (zs : List Int) (w : World) (hs : Seg w a len zs) (hc : len ≤ cap) (hl : len ≤ 1099511627776) (hat : at_ = (T : Int)) (h : T + n ≤ len) :
    Calls Try.prog 52 #[.slice a len cap, .int .i64 at_, .int .i64 n] w fun e w' => ∃ a', e = .returned (.tuple #[.slice a' n n, .bool true]) ∧ Seg w a' n ((zs.drop T).take n) ∧ w' = w := by
  subst hat
  exact cut_yes a len cap n T zs w hs hc hl h

set_option maxHeartbeats 1600000 in
theorem implGetF_short (a : Option Addr) (len cap : Nat) (at_ : Int) (w : World) (hl : len ≤ 1099511627776) (ha : -9223372036854775808 ≤ at_ ∧ at_ ≤ 9223372036854775807) (h : ¬ (0 ≤ at_ ∧ at_ + 9 ≤ (len : Int))) :
    Calls Try.prog 25 #[.slice a len cap, .int .i64 at_] w fun e w' => ∃ a' cap', e = .returned (.tuple #[.agg #[.int .i64 0, .int .i64 0, .int .i64 0, .slice a' 0 cap'], .int .i64 at_, .int .i64 1]) ∧ Owns w' w.heap.size a' 0 cap' [] ∧ Below w.heap.size w w' := by
  have HB0 : Hid (Below w.heap.size w (w.alloc (.cells #[.int .i64 0, .int .i64 0, .int .i64 0, .slice none 0 0] 44))) := (Below.refl _ _).alloc (Nat.le_refl _) _
  have HX0 : Hid (Box4 (w.alloc (.cells #[.int .i64 0, .int .i64 0, .int .i64 0, .slice none 0 0] 44)) w.heap.size 44 (.int .i64 0) (.int .i64 0) (.int .i64 0) (.slice none 0 0)) := Box4.new _ _ _ _ _ _
  go_enter Try.func25, Try.ntmps25
  go_wp2_with fail
  refine (cut_no a len cap 9 at_ _ hl (by omega) ha h).mono ?_
  rintro e x0 ⟨rfl, rfl⟩
  obtain ⟨x0, hx0⟩ : ∃ x0, w.alloc (.cells #[.int .i64 0, .int .i64 0, .int .i64 0, .slice none 0 0] 44) = x0 := ⟨_, rfl⟩
  rw [hx0] at HB0 HX0 ⊢
  clear hx0
  obtain ⟨c0, c1, c2, c3⟩ := HX0.out.cells
  have f0 := HX0.out.frozen 0
  have f1 := HX0.out.frozen 1
  have f2 := HX0.out.frozen 2
  have f3 := HX0.out.frozen 3
  go_wp2_with fail
  refine bodyPost_ret (v := .tuple #[.agg #[.int .i64 0, .int .i64 0, .int .i64 0, .slice none 0 0], .int .i64 at_, .int .i64 1]) (by simp [results, Try.f25, go_sem, c0, c1, c2, c3]) rfl ?_
  exact ⟨none, 0, rfl, ⟨⟨rfl, .inl ⟨rfl, rfl⟩⟩, by simp⟩, (((HB0.out.setCell (Nat.le_refl _) _).setCell (Nat.le_refl _) _).setCell (Nat.le_refl _) _).setCell (Nat.le_refl _) _⟩

set_option maxHeartbeats 1600000 in
theorem implGetF_long (a : Option Addr) (len cap T n : Nat) (zs : List Int) (w : World) (hs : Seg w a len zs) (hcap : len ≤ cap) (hl : len ≤ 1099511627776) (hT : T + 9 ≤ len) (hn : frLen zs T = (n : Int)) (h : 1000 < n) (hnb : n ≤ 281474976710656) :
    Calls Try.prog 25 #[.slice a len cap, .int .i64 (T : Int)] w fun e w' => ∃ a' cap', e = .returned (.tuple #[.agg #[.int .i64 0, .int .i64 0, .int .i64 0, .slice a' 0 cap'], .int .i64 (T : Int), .int .i64 2]) ∧ Owns w' w.heap.size a' 0 cap' [] ∧ Below w.heap.size w w' := by
  have HN : Hid (frLen zs T = (n : Int)) := hn
  clear hn
  have HS : Hid (Seg w a len zs) := hs
  clear hs
  have HB0 : Hid (Below w.heap.size w (w.alloc (.cells #[.int .i64 0, .int .i64 0, .int .i64 0, .slice none 0 0] 44))) := (Below.refl _ _).alloc (Nat.le_refl _) _
  have HX0 : Hid (Box4 (w.alloc (.cells #[.int .i64 0, .int .i64 0, .int .i64 0, .slice none 0 0] 44)) w.heap.size 44 (.int .i64 0) (.int .i64 0) (.int .i64 0) (.slice none 0 0)) := Box4.new _ _ _ _ _ _
  go_enter Try.func25, Try.ntmps25
  go_wp2_with fail
  refine (cut_at a len cap 9 T T zs _ (HS.out.below HB0.out) hcap hl rfl (by omega)).mono ?_
  rintro e x0 ⟨ah, rfl, hsh, rfl⟩
  obtain ⟨x0, hx0⟩ : ∃ x0, w.alloc (.cells #[.int .i64 0, .int .i64 0, .int .i64 0, .slice none 0 0] 44) = x0 := ⟨_, rfl⟩
  rw [hx0] at HB0 HX0 hsh ⊢
  clear hx0
  obtain ⟨c0, c1, c2, c3⟩ := HX0.out.cells
  have f0 := HX0.out.frozen 0
  have f1 := HX0.out.frozen 1
  have f2 := HX0.out.frozen 2
  have f3 := HX0.out.frozen 3
  have HH : Hid (Seg x0 ah 9 ((zs.drop T).take 9)) := hsh
  clear hsh
  go_wp2_with fail
  refine (implGet_yes ah 9 9 0 3 _ x0 HH.out (by omega) (by omega) (by omega) (by omega) (by omega)).mono ?_
  rintro e x1 ⟨rfl, rfl⟩
  rw [head_take zs T 0 3 (by omega), Nat.add_zero, show gb ((zs.drop T).take 3) = (n : Int) from HN.out]
  have hni : (1000 : Int) < (n : Int) := by omega
  go_wp2_with fail
  refine bodyPost_ret (v := .tuple #[.agg #[.int .i64 0, .int .i64 0, .int .i64 0, .slice none 0 0], .int .i64 (T : Int), .int .i64 2]) (by simp [results, Try.f25, go_sem, c0, c1, c2, c3]) rfl ?_
  exact ⟨none, 0, rfl, ⟨⟨rfl, .inl ⟨rfl, rfl⟩⟩, by simp⟩, (((HB0.out.setCell (Nat.le_refl _) _).setCell (Nat.le_refl _) _).setCell (Nat.le_refl _) _).setCell (Nat.le_refl _) _⟩

set_option maxHeartbeats 1600000 in
theorem implGetF_cut (a : Option Addr) (len cap T n : Nat) (zs : List Int) (w : World) (hs : Seg w a len zs) (hcap : len ≤ cap) (hl : len ≤ 1099511627776) (hT : T + 9 ≤ len) (hn : frLen zs T = (n : Int)) (h : n ≤ 1000) (hc : len < T + 9 + n) :
    Calls Try.prog 25 #[.slice a len cap, .int .i64 (T : Int)] w fun e w' => ∃ a' cap', e = .returned (.tuple #[.agg #[.int .i64 0, .int .i64 0, .int .i64 0, .slice a' 0 cap'], .int .i64 (T : Int), .int .i64 1]) ∧ Owns w' w.heap.size a' 0 cap' [] ∧ Below w.heap.size w w' := by
  have HN : Hid (frLen zs T = (n : Int)) := hn
  clear hn
  have HS : Hid (Seg w a len zs) := hs
  clear hs
  have HB0 : Hid (Below w.heap.size w (w.alloc (.cells #[.int .i64 0, .int .i64 0, .int .i64 0, .slice none 0 0] 44))) := (Below.refl _ _).alloc (Nat.le_refl _) _
  have HX0 : Hid (Box4 (w.alloc (.cells #[.int .i64 0, .int .i64 0, .int .i64 0, .slice none 0 0] 44)) w.heap.size 44 (.int .i64 0) (.int .i64 0) (.int .i64 0) (.slice none 0 0)) := Box4.new _ _ _ _ _ _
  go_enter Try.func25, Try.ntmps25
  go_wp2_with fail
  refine (cut_at a len cap 9 T T zs _ (HS.out.below HB0.out) hcap hl rfl (by omega)).mono ?_
  rintro e x0 ⟨ah, rfl, hsh, rfl⟩
  obtain ⟨x0, hx0⟩ : ∃ x0, w.alloc (.cells #[.int .i64 0, .int .i64 0, .int .i64 0, .slice none 0 0] 44) = x0 := ⟨_, rfl⟩
  rw [hx0] at HB0 HX0 hsh ⊢
  clear hx0
  obtain ⟨c0, c1, c2, c3⟩ := HX0.out.cells
  have f0 := HX0.out.frozen 0
  have f1 := HX0.out.frozen 1
  have f2 := HX0.out.frozen 2
  have f3 := HX0.out.frozen 3
  have HH : Hid (Seg x0 ah 9 ((zs.drop T).take 9)) := hsh
  clear hsh
  go_wp2_with fail
  refine (implGet_yes ah 9 9 0 3 _ x0 HH.out (by omega) (by omega) (by omega) (by omega) (by omega)).mono ?_
  rintro e x1 ⟨rfl, rfl⟩
  rw [head_take zs T 0 3 (by omega), Nat.add_zero, show gb ((zs.drop T).take 3) = (n : Int) from HN.out]
  have hni : (n : Int) ≤ 1000 := by omega
  go_wp2_with fail
  refine (cut_no a len cap n _ x1 hl (by omega) (by omega) (by omega)).mono ?_
  rintro e x2 ⟨rfl, rfl⟩
  go_wp2_with fail
  refine bodyPost_ret (v := .tuple #[.agg #[.int .i64 0, .int .i64 0, .int .i64 0, .slice none 0 0], .int .i64 (T : Int), .int .i64 1]) (by simp [results, Try.f25, go_sem, c0, c1, c2, c3]) rfl ?_
  exact ⟨none, 0, rfl, ⟨⟨rfl, .inl ⟨rfl, rfl⟩⟩, by simp⟩, (((HB0.out.setCell (Nat.le_refl _) _).setCell (Nat.le_refl _) _).setCell (Nat.le_refl _) _).setCell (Nat.le_refl _) _⟩

set_option maxHeartbeats 1600000 in
theorem implGetF_yes (a : Option Addr) (len cap T n : Nat) (zs : List Int) (w : World) (hs : Seg w a len zs) (hcap : len ≤ cap) (hl : len ≤ 1099511627776) (hT : T + 9 ≤ len) (hn : frLen zs T = (n : Int)) (h : n ≤ 1000) (hc : T + 9 + n ≤ len) :
    Calls Try.prog 25 #[.slice a len cap, .int .i64 (T : Int)] w fun e w' => ∃ a' cap', e = .returned (.tuple #[.agg #[.int .i64 (zs.getD (T + 3) 0), .int .i64 (zs.getD (T + 4) 0), .int .i64 (frStream zs T), .slice a' n cap'], .int .i64 ((T : Int) + 9 + n), .int .i64 0]) ∧ Owns w' w.heap.size a' n cap' ((zs.drop (T + 9)).take n) ∧ Below w.heap.size w w' := by
  obtain ⟨p3, hp3⟩ : ∃ p, zs.getD (T + 3) 0 = p := ⟨_, rfl⟩
  obtain ⟨p4, hp4⟩ : ∃ p, zs.getD (T + 4) 0 = p := ⟨_, rfl⟩
  obtain ⟨sm, hsm⟩ : ∃ p, frStream zs T = p := ⟨_, rfl⟩
  have HPS : Hid (zs.getD (T + 3) 0 = p3 ∧ zs.getD (T + 4) 0 = p4 ∧ bits BinOp.and IntKind.i64 (gb ((zs.drop (T + 5)).take 4)) 2147483647 = sm) := ⟨hp3, hp4, hsm⟩
  rw [hp3, hp4, hsm]
  clear hp3 hp4 hsm
  have HN : Hid (frLen zs T = (n : Int)) := hn
  clear hn
  have HS : Hid (Seg w a len zs) := hs
  clear hs
  have HB0 : Hid (Below w.heap.size w (w.alloc (.cells #[.int .i64 0, .int .i64 0, .int .i64 0, .slice none 0 0] 44))) := (Below.refl _ _).alloc (Nat.le_refl _) _
  have HX0 : Hid (Box4 (w.alloc (.cells #[.int .i64 0, .int .i64 0, .int .i64 0, .slice none 0 0] 44)) w.heap.size 44 (.int .i64 0) (.int .i64 0) (.int .i64 0) (.slice none 0 0)) := Box4.new _ _ _ _ _ _
  go_enter Try.func25, Try.ntmps25
  go_wp2_with fail
  refine (cut_at a len cap 9 T T zs _ (HS.out.below HB0.out) hcap hl rfl (by omega)).mono ?_
  rintro e x0 ⟨ah, rfl, hsh, rfl⟩
  obtain ⟨x0, hx0⟩ : ∃ x0, w.alloc (.cells #[.int .i64 0, .int .i64 0, .int .i64 0, .slice none 0 0] 44) = x0 := ⟨_, rfl⟩
  rw [hx0] at HB0 HX0 hsh ⊢
  clear hx0
  obtain ⟨c0, c1, c2, c3⟩ := HX0.out.cells
  have f0 := HX0.out.frozen 0
  have f1 := HX0.out.frozen 1
  have f2 := HX0.out.frozen 2
  have f3 := HX0.out.frozen 3
  have HH : Hid (Seg x0 ah 9 ((zs.drop T).take 9)) := hsh
  clear hsh
  go_wp2_with fail
  refine (implGet_yes ah 9 9 0 3 _ x0 HH.out (by omega) (by omega) (by omega) (by omega) (by omega)).mono ?_
  rintro e x1 ⟨rfl, rfl⟩
  rw [head_take zs T 0 3 (by omega), Nat.add_zero, show gb ((zs.drop T).take 3) = (n : Int) from HN.out]
  have hni : (n : Int) ≤ 1000 := by omega
  go_wp2_with fail
  refine (cut_at a len cap n (T + 9) _ zs x1 (HS.out.below HB0.out) hcap hl (by omega) (by omega)).mono ?_
  rintro e x2 ⟨ab, rfl, hsb, rfl⟩
  have HBd : Hid (Seg x2 ab n ((zs.drop (T + 9)).take n)) := hsb
  clear hsb
  go_wp2_with fail
  refine (frameOf_any ah ab n _ _ x2 HH.out HBd.out h).mono ?_
  rintro e x3 ⟨g, rfl, ho3, hb3⟩
  rw [head_get zs T 3 (by omega), head_get zs T 4 (by omega), head_take zs T 5 4 (by omega), HPS.out.1, HPS.out.2.1, HPS.out.2.2]
  have HB3 : Hid (Below w.heap.size w x3) := HB0.out.trans (hb3.mono HB0.out.size)
  have HX3 : Hid (Box4 x3 w.heap.size 44 (.int .i64 0) (.int .i64 0) (.int .i64 0) (.slice none 0 0)) := HX0.out.stays hb3
  have HO3 : Hid (Owns x3 x2.heap.size (some ⟨g, 0, none⟩) n n ((zs.drop (T + 9)).take n)) := ho3
  have hlt : w.heap.size < x2.heap.size := HX0.out.lt
  clear hb3 ho3 c0 c1 c2 c3 f0 f1 f2 f3
  obtain ⟨c0, c1, c2, c3⟩ := HX3.out.cells
  have f0 := HX3.out.frozen 0
  have f1 := HX3.out.frozen 1
  have f2 := HX3.out.frozen 2
  have f3 := HX3.out.frozen 3
  go_wp2_with fail
  refine bodyPost_ret (v := .tuple #[.agg #[.int .i64 p3, .int .i64 p4, .int .i64 sm, .slice (some ⟨g, 0, none⟩) n n], .int .i64 ((T : Int) + 9 + n), .int .i64 0]) (by simp [results, Try.f25, go_sem, c0, c1, c2, c3]) rfl ?_
  refine ⟨_, _, rfl, ⟨own_low (base := x2.heap.size) ?_ (Nat.le_of_lt hlt), HO3.out.2⟩, ?_⟩
  · exact ownsRow_setCell_below (ownsRow_setCell_below (ownsRow_setCell_below (ownsRow_setCell_below HO3.out.1 (by dsimp only; omega) _) (by dsimp only; omega) _) (by dsimp only; omega) _) (by dsimp only; omega) _
  · exact (((HB3.out.setCell (Nat.le_refl _) _).setCell (Nat.le_refl _) _).setCell (Nat.le_refl _) _).setCell (Nat.le_refl _) _

theorem implGetF_any (a : Option Addr) (len cap : Nat) (at_ : Int) (zs : List Int) (w : World) (hs : Seg w a len zs) (hcap : len ≤ cap) (hl : len ≤ 1099511627776) (ha : -9223372036854775808 ≤ at_ ∧ at_ ≤ 9223372036854775807) :
    Calls Try.prog 25 #[.slice a len cap, .int .i64 at_] w fun e w' => ∃ a' cap', e = .returned (.tuple #[.agg #[.int .i64 (getF zs at_).1, .int .i64 (getF zs at_).2.1, .int .i64 (getF zs at_).2.2.1, .slice a' (getF zs at_).2.2.2.1.length cap'], .int .i64 (getF zs at_).2.2.2.2.1, .int .i64 (getF zs at_).2.2.2.2.2]) ∧ Owns w' w.heap.size a' (getF zs at_).2.2.2.1.length cap' (getF zs at_).2.2.2.1 ∧ Below w.heap.size w w' := by
  have hz := hs.1
  by_cases h1 : 0 ≤ at_ ∧ at_ + 9 ≤ (zs.length : Int)
  · obtain ⟨T, rfl⟩ := Int.eq_ofNat_of_zero_le h1.1
    have hr := frLen_range zs T hs.2.1
    obtain ⟨n, hn⟩ := Int.eq_ofNat_of_zero_le hr.1
    have hT : T + 9 ≤ len := by omega
    by_cases h2 : 1000 < n
    · have e : getF zs T = (0, 0, 0, [], (T : Int), 2) := by
        rw [getF, if_pos h1, Int.toNat_natCast, hn, if_pos (by omega)]
      rw [e]
      exact implGetF_long a len cap T n zs w hs hcap hl hT hn h2 (by omega)
    · by_cases h3 : T + 9 + n ≤ len
      · have e : getF zs T = (zs.getD (T + 3) 0, zs.getD (T + 4) 0, frStream zs T, (zs.drop (T + 9)).take n, (T : Int) + 9 + n, 0) := by
          rw [getF, if_pos h1, Int.toNat_natCast, hn, if_neg (by omega), if_pos (by omega), Int.toNat_natCast]
        have el : ((zs.drop (T + 9)).take n).length = n := by rw [List.length_take, List.length_drop]; omega
        rw [e]
        dsimp only
        rw [el]
        exact implGetF_yes a len cap T n zs w hs hcap hl hT hn (by omega) h3
      · have e : getF zs T = (0, 0, 0, [], (T : Int), 1) := by
          rw [getF, if_pos h1, Int.toNat_natCast, hn, if_neg (by omega), if_neg (by omega)]
        rw [e]
        exact implGetF_cut a len cap T n zs w hs hcap hl hT hn (by omega) (by omega)
  · have e : getF zs at_ = (0, 0, 0, [], at_, 1) := by rw [getF, if_neg h1]
    rw [e]
    exact implGetF_short a len cap at_ w hl ha (by omega)

end Go.Proofs.Ytcicboolbeognac
