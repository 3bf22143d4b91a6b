/- What the program's Pad answers: the number, the data and so many bytes 0, in memory of its own; nothing that was there is written. For data of at most 2^40 bytes. -/
import Derived.Test.YtghakpcagacdaadCopyAt
import Derived.Test.YtghakpcagacdaadBox4
import Derived.Deep.RegionWith
namespace Go.Proofs.Ytghakpcagacdaad
open Go.RowKit
set_option linter.unusedVariables false

/-- The number of bytes 0 of Pad. -/
def padN (n : Int) : Nat := if n < 0 then 0 else if 255 < n then 255 else n.toNat

theorem padN_le (n : Int) : padN n ≤ 255 := by
  unfold padN
  split
  · omega
  · split <;> omega

/-- The bytes of Pad. -/
def padB (zs : List Int) (m : Nat) : List Int := (m : Int) :: (zs ++ List.replicate m 0)

theorem padB_len (zs : List Int) (m : Nat) : (padB zs m).length = 1 + zs.length + m := by simp [padB]; omega

theorem padB_range (zs : List Int) (m : Nat) (hm : m ≤ 255) (h : ∀ x ∈ zs, 0 ≤ x ∧ x ≤ 255) : ∀ x ∈ padB zs m, 0 ≤ x ∧ x ≤ 255 := by
  intro x hx
  simp only [padB, List.mem_cons, List.mem_append, List.mem_replicate] at hx
  rcases hx with rfl | hx | ⟨_, rfl⟩
  · omega
  · exact h x hx
  · omega

theorem row_block {w : World} {base g n : Nat} {xs : List Value} (h : w.ownsRow base 5 1 (.slice (some ⟨g, 0, none⟩) n n) n xs) : w.heap[g]? = some (.cells xs.toArray 5 (0, 0)) := by
  rcases h.2 with ⟨he, _⟩ | ⟨g', cap', cur, he, hb, hg, hn, hm, hc, ht⟩
  · cases he
  · injection he with e1 e2 e3
    injection e1 with e1
    injection e1 with e1
    subst e1 e3
    have : cur.toList = xs := by rw [← ht, List.take_of_length_le (by simp [hc])]
    rw [hg, ← this]

set_option maxRecDepth 10000 in
set_option maxHeartbeats 800000 in
theorem implPad_any (a : Option Addr) (len cap : Nat) (n : Int) (M T : Nat) (zs : List Int) (w : World) (hs : Seg w a len zs) (hl : len ≤ 1099511627776) (hM : padN n = M) (hT : 1 + len + M = T) :
    Calls Try.prog 6 #[.slice a len cap, .int .i64 n] w fun e w' => ∃ g cap', e = .returned (.slice (some ⟨g, 0, none⟩) T cap') ∧ Owns w' w.heap.size (some ⟨g, 0, none⟩) T cap' (padB zs M) ∧ Below w.heap.size w w' := by
  obtain ⟨i0, hi, hz0, hz1, hz2⟩ := info_parts Try.info5
  have HS : Hid (Seg w a len zs) := hs
  have hzl : Hid (zs.length = len) := hs.1
  clear hs
  have hM255 : (M : Int) ≤ 255 := by have := padN_le n; omega
  have hM0 : (0 : Int) ≤ (M : Int) := by omega
  have hM256 : (M : Int) % 256 = (M : Int) := by omega
  obtain ⟨mx, hmx⟩ : ∃ mx : Int, (if (0 : Int) > n then (0 : Int) else n) = mx := ⟨_, rfl⟩
  have hmn : (if (255 : Int) < mx then (255 : Int) else mx) = (M : Int) := by
    rw [← hmx, ← hM, padN]
    by_cases h1 : n < 0
    · simp [h1]
    · by_cases h2 : 255 < n <;> simp [h1, h2]
      omega
  have qx : ∀ w : World, (Builtin.max_ #[3, 3] 3 #[.int .i64 n, .int .i64 0]).run Try.prog w = .ok (.int .i64 mx) w := fun w => by rw [run_max_int2, hmx]
  have qn : ∀ w : World, (Builtin.min_ #[3, 3] 3 #[.int .i64 mx, .int .i64 255]).run Try.prog w = .ok (.int .i64 M) w := fun w => by rw [run_min_int2, hmn]
  have hT1 : (1 : Int) ≤ (T : Int) := by omega
  have hTl : (1 : Int) + (len : Int) + (M : Int) = (T : Int) := by omega
  have HT : Hid (1 + len + M = T) := hT
  have HTb : Hid (T ≤ 2199023255552) := by show _ ≤ _; omega
  clear hmx hmn hM hT
  go_enter Try.func6, Try.ntmps6
  go_wp2_with (at_make; refine wpList_make_full _ rfl _ _ 22 rfl w.heap.size 5 i0 (.int .u8 0) 1 Try.underlying22 hi hz0 hz1 _ _ _ _ T rfl rfl (by have := HT.out; omega) (by have := HT.out; omega) (by have := HTb.out; rw [hz2]; omega) (by have := HTb.out; unfold maxLen; omega) (Nat.le_refl _) ?_; intro w1 hown hgrow; refine Hid.out ?_)
  refine hidden ?_
  have HO1 : Hid (w1.ownsRow w.heap.size 5 1 (.slice (some ⟨w.heap.size, 0, none⟩) T T) T ((List.replicate T (0 : Int)).map (Value.int .u8))) := by
    show World.ownsRow _ _ _ _ _ _ _
    simpa [toList_madeCells_one, Value.cells] using hown
  have HB1 : Hid (Below w.heap.size w w1) := (Below.refl _ _).grown hgrow (Nat.le_refl _) (by simp)
  clear hown hgrow
  have f0 : w1.frozen? ⟨w.heap.size, 0, none⟩ = false := HO1.out.frozenAt 0
  obtain ⟨u0, hu0⟩ : ∃ u, w1.cell? ⟨w.heap.size, 0, none⟩ = some u := by
    rw [HO1.out.cellAt 0 (by omega)]
    exact ⟨_, List.getElem?_eq_getElem (by simp; omega)⟩
  obtain ⟨w2, hw2⟩ : ∃ w2, w1.setCell ⟨w.heap.size, 0, none⟩ (.int .u8 M) = w2 := ⟨_, rfl⟩
  have hG2 : w2.heap[w.heap.size]? = some (.cells (((M : Int) :: List.replicate (len + M) 0).map (Value.int .u8)).toArray 5 (0, 0)) := by
    have h := row_block (HO1.out.stored 0 (.int .u8 M)).1
    rw [hw2] at h
    rw [h]
    have := HT.out
    rw [show T = (len + M) + 1 by omega, List.replicate_succ]
    rfl
  have hB2 : Below w.heap.size w w2 := by rw [← hw2]; exact HB1.out.setCell (Nat.le_refl _) _
  by_cases h1 : T = 1
  · have hl0 : len = 0 := by have := HT.out; omega
    have hM00 : M = 0 := by have := HT.out; omega
    subst h1 hl0 hM00
    clear qn hTl hM256 hM0 hM255 hT1 hl
    simp only [Int.natCast_zero, Int.natCast_one] at hw2 hG2 ⊢
    obtain rfl : zs = [] := List.eq_nil_of_length_eq_zero hzl.out
    obtain ⟨w3, hrun, hg3, hb3, _⟩ := copy_at w2 w.heap.size 0 0 0 0 a cap [] _ (HS.out.below hB2) hG2 (by omega) (by simp)
    have HG3 : Hid (w3.heap[w.heap.size]? = some (.cells ((padB [] 0).map (Value.int .u8)).toArray 5 (0, 0))) := by
      show _ = _
      rw [hg3]
      rfl
    have HB3 : Hid (Below w.heap.size w w3) := hB2.trans (hb3.mono (Nat.le_refl _))
    clear hg3 hb3 hG2 hB2
    simp only [Int.natCast_zero] at hrun
    go_wp2_with fail
    go_ret
    refine ⟨_, _, rfl, ⟨?_, padB_range [] 0 (by omega) (by simp)⟩, HB3.out⟩
    have h := row_own HG3.out (base := w.heap.size) (Nat.le_refl _) (n := 1) (c := 1) (by simp [padB_len]) (by omega) (by unfold maxLen; omega)
    rwa [List.take_of_length_le (by simp [padB_len])] at h
  · obtain ⟨T1, hTT⟩ : ∃ T1, T - 1 = T1 := ⟨_, rfl⟩
    have hlT : len + M = T1 := by have := HT.out; omega
    obtain ⟨w3, hrun, hg3, hb3, _⟩ := copy_at w2 w.heap.size 1 T1 T1 len a cap zs _ (HS.out.below hB2) hG2 (by omega) (by simp; omega)
    have HG3 : Hid (w3.heap[w.heap.size]? = some (.cells ((padB zs M).map (Value.int .u8)).toArray 5 (0, 0))) := by
      show _ = _
      rw [hg3, padB]
      simp [show 1 + len = len + 1 by omega]
    have HB3 : Hid (Below w.heap.size w w3) := hB2.trans (hb3.mono (Nat.le_refl _))
    have HT1 : Hid (T - 1 = T1) := hTT
    clear hg3 hb3 hG2 hB2 hlT
    go_wp2_with fail
    go_ret
    refine ⟨_, _, rfl, ⟨?_, padB_range zs M (by omega) HS.out.2.1⟩, HB3.out⟩
    have hlen : (padB zs M).length = T := by rw [padB_len, hzl.out]; exact HT.out
    have h := row_own HG3.out (base := w.heap.size) (Nat.le_refl _) (n := T) (c := T) (by simp [hlen]) (by omega) (by have := HTb.out; unfold maxLen; omega)
    rwa [List.take_of_length_le (by simp [hlen])] at h

end Go.Proofs.Ytghakpcagacdaad
