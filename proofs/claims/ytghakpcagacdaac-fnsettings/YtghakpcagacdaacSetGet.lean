/- What the program's GetSettings answers: the settings of six bytes each, in memory of its own, or none; nothing that was there is written. For lists of at most 2^40 bytes. -/
import Derived.Test.YtghakpcagacdaacSetRow
import Derived.Test.YtghakpcagacdaacBigB
namespace Go.Proofs.Ytghakpcagacdaac
open Go.RowKit
set_option linter.unusedVariables false

/-- The setting at a place. -/
def setAt (zs : List Int) (j : Nat) : Sett := (gb ((zs.drop (6 * j)).take 2), gb ((zs.drop (6 * j + 2)).take 4))
/-- So many settings. -/
def getSl (zs : List Int) (n : Nat) : List Sett := (List.range n).map (setAt zs)
/-- What GetSettings answers. -/
def getS (zs : List Int) : List Sett × Bool := if zs.length % 6 = 0 then (getSl zs (zs.length / 6), true) else ([], false)

theorem getSl_succ (zs : List Int) (n : Nat) : getSl zs (n + 1) = getSl zs n ++ [setAt zs n] := by simp [getSl, List.range_succ]
theorem getSl_len (zs : List Int) (n : Nat) : (getSl zs n).length = n := by simp [getSl]

theorem setAt_range (zs : List Int) (j : Nat) (h : ∀ x ∈ zs, 0 ≤ x ∧ x ≤ 255) : i64b (setAt zs j).1 ∧ i64b (setAt zs j).2 := by
  have h1 := gb_part_bound zs (6 * j) 2 h (by omega)
  have h2 := gb_part_bound zs (6 * j + 2) 4 h (by omega)
  unfold setAt i64b
  dsimp only
  omega

theorem getSl_range (zs : List Int) (n : Nat) (h : ∀ x ∈ zs, 0 ≤ x ∧ x ≤ 255) : ∀ s ∈ getSl zs n, i64b s.1 ∧ i64b s.2 := by
  intro s hs
  obtain ⟨j, _, rfl⟩ := List.mem_map.1 hs
  exact setAt_range zs j h

theorem pair_new (w : World) (x y : Int) (t : TypeId) : ∀ j u, [Value.int .i64 x, Value.int .i64 y][j]? = some u → (w.alloc (.cells #[.int .i64 x, .int .i64 y] t)).cell? ((⟨w.heap.size, 0, none⟩ : Addr).add j) = some u := by
  intro j u hj
  match j, hj with
  | 0, hj => simp at hj; subst hj; simp [Addr.add]
  | 1, hj => simp at hj; subst hj; simp [Addr.add]

theorem ints_two (x y : Int) : ∀ u ∈ [Value.int .i64 x, Value.int .i64 y], u.oneCell' = true := by
  intro u hu
  simp at hu
  rcases hu with rfl | rfl <;> rfl

theorem shape_setts {w : World} {base n : Nat} {v : Value} {xs : List Value} (h : w.ownsRow base 60 2 v n xs) : ∃ a cap, v = .slice a n cap := by
  rcases h.2 with ⟨rfl, rfl⟩ | ⟨g, cap, cur, rfl, _⟩
  · exact ⟨_, _, rfl⟩
  · exact ⟨_, _, rfl⟩

set_option maxHeartbeats 400000 in
theorem implGetSt_no (a : Option Addr) (len cap : Nat) (zs : List Int) (w : World) (hl : len ≤ 1099511627776) (h : ¬ len % 6 = 0) :
    Calls Try.prog 29 #[.slice a len cap] w fun e w' => ∃ a' cap', e = .returned (.tuple #[.slice a' 0 cap', .bool false]) ∧ OwnS w' w.heap.size a' 0 cap' [] ∧ Below w.heap.size w w' := by
  have hr : (Int.tmod (len : Int) 6 != 0) = true := by rw [Int.tmod_eq_emod_of_nonneg (by omega)]; simp; omega
  go_enter Try.func29, Try.ntmps29
  go_wp2_with fail
  go_ret2
  exact ⟨_, _, rfl, ⟨World.ownsRow_lit w #[] 0 (Nat.le_refl _) (Nat.zero_le _) rfl, by simp⟩, (Below.refl _ _).alloc (Nat.le_refl _) _⟩

set_option maxRecDepth 10000 in
set_option maxHeartbeats 800000 in
theorem implGetSt_yes (a : Option Addr) (len cap n : Nat) (zs : List Int) (w : World) (hs : Seg w a len zs) (hcap : len ≤ cap) (hl : len ≤ 1099511627776) (h : len = 6 * n) :
    Calls Try.prog 29 #[.slice a len cap] w fun e w' => ∃ a' cap', e = .returned (.tuple #[.slice a' n cap', .bool true]) ∧ OwnS w' w.heap.size a' n cap' (getSl zs n) ∧ Below w.heap.size w w' := by
  obtain ⟨i0, hi, hz0, hz1, hz2⟩ := info_parts info_setting
  have HS : Hid (Seg w a len zs) := hs
  have HC : Hid (len ≤ cap) := hcap
  have HN : Hid (len = 6 * n) := h
  have hr : Int.tmod (len : Int) 6 = 0 := by rw [Int.tmod_eq_emod_of_nonneg (by omega)]; omega
  have hq : Int.tdiv (len : Int) 6 = (n : Int) := by rw [Int.tdiv_eq_ediv_of_nonneg (by omega)]; omega
  have hnb : n ≤ 183251937963 := by omega
  clear hs hcap h
  go_enter Try.func29, Try.ntmps29
  go_wp2_with (at_make; refine wpList_make_own _ rfl _ _ 54 rfl w.heap.size 60 i0 (.agg #[.int .i64 0, .int .i64 0]) 2 Try.underlying54 hi hz0 hz1 _ _ _ n rfl rfl rfl (by rw [hz2]; omega) (by unfold maxLen; omega) (Nat.le_refl _) ?_; intro w1 hown1 hgrow1; refine Hid.out ?_)
  refine hidden ?_
  have HO1 : Hid (w1.ownsRow w.heap.size 60 2 (.slice (some ⟨w.heap.size, 0, none⟩) 0 n) 0 (setCells (getSl zs 0))) := hown1
  have HB1 : Hid (Below w.heap.size w w1) := (Below.refl _ _).grown hgrow1 (Nat.le_refl _) (by simp)
  clear hown1 hgrow1 hr hq
  go_wp2_with fail
  go_loopw [4, 5] (fun v i wr => ∃ k : Nat, k ≤ n ∧ i = .int .i64 ((6 * k : Nat) : Int) ∧ Hid (wr.ownsRow w.heap.size 60 2 v k (setCells (getSl zs k))) ∧ Hid (Below w.heap.size w wr)) (fun _ i _ => len - (intOf i).toNat)
  case atStart => exact ⟨0, Nat.zero_le _, rfl, HO1, HB1⟩
  case round =>
    clear HO1 HB1
    obtain ⟨k, hk, rfl, HO, HB⟩ := hrel
    obtain ⟨A6, hA6⟩ : ∃ A6, 6 * k = A6 := ⟨_, rfl⟩
    have HA6 : Hid (6 * k = A6) := hA6
    rw [hA6]
    by_cases hlt : k < n
    · have hai : (A6 : Int) < (len : Int) := by have := HN.out; omega
      have ha0 : (0 : Int) ≤ (A6 : Int) := by omega
      have HGx : Hid (∀ W : World, Below w.heap.size w W → Calls Try.prog 60 #[.slice a len cap, .int .i64 (A6 : Int), .int .i64 2] W fun e w' => e = .returned (.tuple #[.int .i64 (setAt zs k).1, .bool true]) ∧ w' = W) := fun W hW => by
        have := implGet_yes a len cap A6 2 zs W (HS.out.below hW) HC.out hl (by omega) (by omega) (by have := HN.out; omega)
        rw [← hA6] at this ⊢
        exact this
      have HGy : Hid (∀ W : World, Below w.heap.size w W → Calls Try.prog 60 #[.slice a len cap, .int .i64 ((A6 : Int) + 2), .int .i64 4] W fun e w' => e = .returned (.tuple #[.int .i64 (setAt zs k).2, .bool true]) ∧ w' = W) := fun W hW => by
        have := implGet_yes a len cap (A6 + 2) 4 zs W (HS.out.below hW) HC.out hl (by omega) (by omega) (by have := HN.out; omega)
        rw [show ((A6 + 2 : Nat) : Int) = (A6 : Int) + 2 by omega] at this
        rw [← hA6] at this ⊢
        exact this
      have HSt : Hid (setCells (getSl zs (k + 1)) = setCells (getSl zs k) ++ [.int .i64 (setAt zs k).1, .int .i64 (setAt zs k).2]) := by
        show _ = _
        rw [getSl_succ, setCells_append]
        rfl
      generalize (setAt zs k).1 = x at *
      generalize (setAt zs k).2 = y at *
      clear hA6
      have hsz := HB.out.size
      have HN2 : Hid (∀ j u, [Value.int .i64 x, Value.int .i64 y][j]? = some u → (wr.alloc (.cells #[.int .i64 x, .int .i64 y] 60)).cell? ((⟨wr.heap.size, 0, none⟩ : Addr).add j) = some u) := pair_new wr x y _
      go_wp2_with fail
      refine (HGx.out wr HB.out).mono ?_
      rintro e w2 ⟨rfl, hw2⟩
      subst w2
      go_wp2_with fail
      refine (HGy.out wr HB.out).mono ?_
      rintro e w2 ⟨rfl, hw2⟩
      subst w2
      go_wp2_with (at_builtin; refine wpList_append_own _ rfl _ _ 54 rfl w.heap.size 60 i0 (.agg #[.int .i64 0, .int .i64 0]) 2 16 Try.underlying54 hi hz0 hz1 hz2 rfl (by decide) u4 k _ rfl (HO.out.alloc _) ⟨wr.heap.size, 0, none⟩ 1 1 [.int .i64 x, .int .i64 y] rfl rfl HN2.out (ints_two x y) (by unfold maxLen; omega) (by omega) (by simp; omega) ?_; intro v2 w2 hown2 hgrow2 _; refine Hid.out ?_)
      refine hidden ?_
      have HO2 : Hid (w2.ownsRow w.heap.size 60 2 v2 (k + 1) (setCells (getSl zs (k + 1)))) := by
        show World.ownsRow _ _ _ _ _ _ _
        rw [HSt.out]
        exact hown2
      have HB2 : Hid (Below w.heap.size w w2) := (HB.out.alloc (by omega) _).grown hgrow2 (by simp; omega) (fun q hq => (HO.out.lt q hq).1)
      clear hown2 hgrow2 HN2 HO HB HGx HGy
      go_wp2_with fail
      go_roundw
      case rel => exact ⟨k + 1, by omega, by have := HA6.out; go_num, HO2, HB2⟩
      case measure => simp [intOf]; omega
    · have hkl : k = n := by omega
      subst hkl
      have hai : ¬ (A6 : Int) < (len : Int) := by have := HN.out; omega
      clear hA6
      obtain ⟨a', cap', rfl⟩ := shape_setts HO.out
      go_wp2_with fail
      go_ret2
      exact ⟨_, _, rfl, ⟨HO.out, getSl_range zs k HS.out.2.1⟩, HB.out⟩

theorem implGetSt_any (a : Option Addr) (len cap : Nat) (zs : List Int) (w : World) (hs : Seg w a len zs) (hcap : len ≤ cap) (hl : len ≤ 1099511627776) :
    Calls Try.prog 29 #[.slice a len cap] w fun e w' => ∃ a' cap', e = .returned (.tuple #[.slice a' (getS zs).1.length cap', .bool (getS zs).2]) ∧ OwnS w' w.heap.size a' (getS zs).1.length cap' (getS zs).1 ∧ Below w.heap.size w w' := by
  have hz := hs.1
  by_cases h : len % 6 = 0
  · have e : getS zs = (getSl zs (len / 6), true) := by rw [getS, hz, if_pos h]
    rw [e]
    simp only [getSl_len]
    exact implGetSt_yes a len cap (len / 6) zs w hs hcap hl (by omega)
  · have e : getS zs = ([], false) := by rw [getS, hz, if_neg h]
    rw [e]
    exact implGetSt_no a len cap zs w hl h

end Go.Proofs.Ytghakpcagacdaac
