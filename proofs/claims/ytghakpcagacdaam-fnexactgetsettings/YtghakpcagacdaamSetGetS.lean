/- What the specification's GetSettings answers: the settings of six bytes each, in memory of its own, or none; nothing that was there is written. For lists of at most 2^40 bytes. -/
import Derived.Test.YtghakpcagacdaamSetGet
import Derived.Test.YtghakpcagacdaamBigS
namespace Go.Proofs.Ytghakpcagacdaam
open Go.RowKit
set_option linter.unusedVariables false

set_option maxHeartbeats 400000 in
theorem specGetSt_no (a : Option Addr) (len cap : Nat) (zs : List Int) (w : World) (hl : len ≤ 1099511627776) (h : ¬ len % 6 = 0) :
    Calls Try.prog 35 #[.slice a len cap] w fun e w' => ∃ a' cap', e = .returned (.tuple #[.slice a' 0 cap', .bool false]) ∧ OwnS w' w.heap.size a' 0 cap' [] ∧ Below w.heap.size w w' := by
  have hr : (Int.tmod (len : Int) 6 != 0) = true := by rw [Int.tmod_eq_emod_of_nonneg (by omega)]; simp; omega
  go_enter Try.func35, Try.ntmps35
  go_wp2_with fail
  go_ret2
  exact ⟨_, _, rfl, ⟨World.ownsRow_lit w #[] 0 (Nat.le_refl _) (Nat.zero_le _) rfl, by simp⟩, (Below.refl _ _).alloc (Nat.le_refl _) _⟩

set_option maxRecDepth 10000 in
set_option maxHeartbeats 800000 in
theorem specGetSt_yes (a : Option Addr) (len cap n : Nat) (zs : List Int) (w : World) (hs : Seg w a len zs) (hl : len ≤ 1099511627776) (h : len = 6 * n) :
    Calls Try.prog 35 #[.slice a len cap] w fun e w' => ∃ a' cap', e = .returned (.tuple #[.slice a' n cap', .bool true]) ∧ OwnS w' w.heap.size a' n cap' (getSl zs n) ∧ Below w.heap.size w w' := by
  obtain ⟨i0, hi, hz0, hz1, hz2⟩ := info_parts info_setting
  have HS : Hid (Seg w a len zs) := hs
  have HN : Hid (len = 6 * n) := h
  have hr : Int.tmod (len : Int) 6 = 0 := by rw [Int.tmod_eq_emod_of_nonneg (by omega)]; omega
  have hq : Int.tdiv (len : Int) 6 = (n : Int) := by rw [Int.tdiv_eq_ediv_of_nonneg (by omega)]; omega
  have hnb : n ≤ 183251937963 := by omega
  clear hs h
  go_enter Try.func35, Try.ntmps35
  have HO1 : Hid ((w.alloc (.cells #[] 63)).ownsRow w.heap.size 63 2 (.slice (some ⟨w.heap.size, 0, none⟩) 0 0) 0 (setCells (getSl zs 0))) := World.ownsRow_lit w #[] 0 (Nat.le_refl _) (Nat.zero_le _) rfl
  have HB1 : Hid (Below w.heap.size w (w.alloc (.cells #[] 63))) := (Below.refl _ _).alloc (Nat.le_refl _) _
  clear hq
  go_wp2_with fail
  go_loopw [4, 5] (fun v i wr => ∃ k : Nat, k ≤ n ∧ i = .int .i64 ((6 * k : Nat) : Int) ∧ Hid (wr.ownsRow w.heap.size 63 2 v k (setCells (getSl zs k))) ∧ Hid (Below w.heap.size w wr)) (fun _ i _ => len - (intOf i).toNat)
  case atStart => exact ⟨0, Nat.zero_le _, rfl, HO1, HB1⟩
  case round =>
    clear HO1 HB1
    obtain ⟨k, hk, rfl, HO, HB⟩ := hrel
    obtain ⟨A6, hA6⟩ : ∃ A6, 6 * k = A6 := ⟨_, rfl⟩
    have HA6 : Hid (6 * k = A6) := hA6
    rw [hA6]
    by_cases hlt : k < n
    · have hai : (A6 : Int) < (len : Int) := by have := HN.out; omega
      have ha0 : (0 : Int) ≤ (A6 : Int) := by omega
      have HGx : Hid (∀ W : World, Below w.heap.size w W → Calls Try.prog 46 #[.slice a len cap, .int .i64 (A6 : Int), .int .i64 2] W fun e w' => e = .returned (.tuple #[.int .i64 (setAt zs k).1, .bool true]) ∧ w' = W) := fun W hW => by
        have := specGet_yes a len cap A6 2 zs W (HS.out.below hW) hl (by omega) (by omega) (by have := HN.out; omega)
        rw [← hA6] at this ⊢
        exact this
      have HGy : Hid (∀ W : World, Below w.heap.size w W → Calls Try.prog 46 #[.slice a len cap, .int .i64 ((A6 : Int) + 2), .int .i64 4] W fun e w' => e = .returned (.tuple #[.int .i64 (setAt zs k).2, .bool true]) ∧ w' = W) := fun W hW => by
        have := specGet_yes a len cap (A6 + 2) 4 zs W (HS.out.below hW) hl (by omega) (by omega) (by have := HN.out; omega)
        rw [show ((A6 + 2 : Nat) : Int) = (A6 : Int) + 2 by omega] at this
        rw [← hA6] at this ⊢
        exact this
      have HSt : Hid (setCells (getSl zs (k + 1)) = setCells (getSl zs k) ++ [.int .i64 (setAt zs k).1, .int .i64 (setAt zs k).2]) := by
        show _ = _
        rw [getSl_succ, setCells_append]
        rfl
      generalize (setAt zs k).1 = x at *
      generalize (setAt zs k).2 = y at *
      clear hA6
      have hsz := HB.out.size
      have HN2 : Hid (∀ j u, [Value.int .i64 x, Value.int .i64 y][j]? = some u → (wr.alloc (.cells #[.int .i64 x, .int .i64 y] 63)).cell? ((⟨wr.heap.size, 0, none⟩ : Addr).add j) = some u) := pair_new wr x y _
      go_wp2_with fail
      refine (HGx.out wr HB.out).mono ?_
      rintro e w2 ⟨rfl, hw2⟩
      subst w2
      go_wp2_with fail
      refine (HGy.out wr HB.out).mono ?_
      rintro e w2 ⟨rfl, hw2⟩
      subst w2
      go_wp2_with (at_builtin; refine wpList_append_own _ rfl _ _ 48 rfl w.heap.size 63 i0 (.agg #[.int .i64 0, .int .i64 0]) 2 16 Try.underlying48 hi hz0 hz1 hz2 rfl (by decide) u4 k _ rfl (HO.out.alloc _) ⟨wr.heap.size, 0, none⟩ 1 1 [.int .i64 x, .int .i64 y] rfl rfl HN2.out (ints_two x y) (by unfold maxLen; omega) (by omega) (by simp; omega) ?_; intro v2 w2 hown2 hgrow2 _; refine Hid.out ?_)
      refine hidden ?_
      have HO2 : Hid (w2.ownsRow w.heap.size 63 2 v2 (k + 1) (setCells (getSl zs (k + 1)))) := by
        show World.ownsRow _ _ _ _ _ _ _
        rw [HSt.out]
        exact hown2
      have HB2 : Hid (Below w.heap.size w w2) := (HB.out.alloc (by omega) _).grown hgrow2 (by simp; omega) (fun q hq => (HO.out.lt q hq).1)
      clear hown2 hgrow2 HN2 HO HB HGx HGy
      go_wp2_with fail
      go_roundw
      case rel => exact ⟨k + 1, by omega, by have := HA6.out; go_num, HO2, HB2⟩
      case measure => simp [intOf]; omega
    · have hkl : k = n := by omega
      subst hkl
      have hai : ¬ (A6 : Int) < (len : Int) := by have := HN.out; omega
      clear hA6
      obtain ⟨a', cap', rfl⟩ := shape_setts HO.out
      go_wp2_with fail
      go_ret2
      exact ⟨_, _, rfl, ⟨HO.out, getSl_range zs k HS.out.2.1⟩, HB.out⟩

theorem specGetSt_any (a : Option Addr) (len cap : Nat) (zs : List Int) (w : World) (hs : Seg w a len zs) (hl : len ≤ 1099511627776) :
    Calls Try.prog 35 #[.slice a len cap] w fun e w' => ∃ a' cap', e = .returned (.tuple #[.slice a' (getS zs).1.length cap', .bool (getS zs).2]) ∧ OwnS w' w.heap.size a' (getS zs).1.length cap' (getS zs).1 ∧ Below w.heap.size w w' := by
  have hz := hs.1
  by_cases h : len % 6 = 0
  · have e : getS zs = (getSl zs (len / 6), true) := by rw [getS, hz, if_pos h]
    rw [e]
    simp only [getSl_len]
    exact specGetSt_yes a len cap (len / 6) zs w hs hl (by omega)
  · have e : getS zs = ([], false) := by rw [getS, hz, if_neg h]
    rw [e]
    exact specGetSt_no a len cap zs w hl h

end Go.Proofs.Ytghakpcagacdaam
