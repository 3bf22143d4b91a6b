/- The library's Clone of bytes: the same bytes in memory of its own. -/
import Derived.Lib.SliceRun
import Derived.Test.YtlalebaaabdihaxOwn
namespace Go.Proofs.Ytlalebaaabdihax
open Go.RowKit
set_option linter.unusedVariables false

set_option maxRecDepth 10000 in
set_option maxHeartbeats 400000 in
theorem cloneB_any (a : Option Addr) (len cap : Nat) (zs : List Int) (w : World) (hs : Seg w a len zs) (hl : len ≤ 1099511627776) :
    Calls Try.prog 59 #[.slice a len cap] w fun e w' => ∃ a' cap', e = .returned (.slice a' len cap') ∧ Owns w' w.heap.size a' len cap' zs ∧ Below w.heap.size w w' := by
  obtain ⟨i0, hi, hz0, hz1, hz2⟩ := info_parts Try.info5
  have qT : ∀ (w : World) (a : Option Addr) (n c n' c' : Nat), (binOp .eql 22 (.slice a n c) (.slice none n' c')).run Try.prog w = .ok (.bool a.isNone) w := fun w a n c n' c' => Lib.run_eql_slice_nil w _ _ a n c n' c' Try.underlying22
  cases a with
  | none =>
    have h0 : len = 0 := by
      rcases hs.2.2 with h | ⟨b, off, h, _⟩
      · exact h
      · cases h
    subst h0
    obtain rfl : zs = [] := List.eq_nil_of_length_eq_zero hs.1
    go_enter Try.func59, Try.ntmps59
    go_wp2
    go_ret
    exact ⟨none, 0, rfl, ⟨World.ownsRow_nil _ _ _ _, by simp⟩, Below.refl _ _⟩
  | some ad =>
    have hzl : zs.length = len := hs.1
    have HC : Hid (∀ j u, (zs.map (Value.int .u8))[j]? = some u → (w.alloc (.cells #[] 5)).cell? (ad.add j) = some u) := by
      intro j u hj
      have hl2 : j < zs.length := by
        by_cases h : j < zs.length
        · exact h
        · rw [List.getElem?_eq_none (by simp; omega)] at hj; cases hj
      rcases hs.2.2 with h | ⟨b, off, h, _⟩
      · omega
      · injection h with h
        subst h
        exact cells_ints (hs.below ((Below.refl _ _).alloc (Nat.le_refl _) _)) j u hj
    have HR : Hid (∀ n ∈ zs, 0 ≤ n ∧ n ≤ 255) := hs.2.1
    have HO1 : Hid ((w.alloc (.cells #[] 5)).ownsRow w.heap.size 5 1 (.slice (some ⟨w.heap.size, 0, none⟩) 0 0) 0 []) := World.ownsRow_lit w #[] 0 (Nat.le_refl _) (Nat.zero_le _) rfl
    clear hs
    go_enter Try.func59, Try.ntmps59
    go_wp2_with (at_builtin; refine wpList_append_own _ rfl _ _ 22 rfl w.heap.size 5 i0 (.int .u8 0) 1 1 Try.underlying22 hi hz0 hz1 hz2 rfl (by decide) (.slice (some ⟨w.heap.size, 0, none⟩) 0 0) 0 [] rfl HO1.out ad len cap (zs.map (Value.int .u8)) rfl (by simp [hzl]) HC.out (ints_one zs) (by unfold maxLen; omega) (by omega) (by simp) ?_; intro v1 w1 hown1 hgrow1 _; refine Hid.out ?_)
    refine hidden ?_
    have HB1 : Hid (Below w.heap.size w w1) := ((Below.refl _ _).alloc (Nat.le_refl _) _).grown hgrow1 (by simp) (by simp [Value.ownBlock])
    obtain ⟨a1, c1, rfl⟩ := shape_of_owns hown1
    have HO2 : Hid (w1.ownsRow w.heap.size 5 1 (.slice a1 len c1) len (zs.map (Value.int .u8))) := by
      show World.ownsRow _ _ _ _ _ _ _
      have h := hown1
      rw [Nat.zero_add] at h
      simpa using h
    have hll : 0 + len = len := Nat.zero_add _
    rw [hll]
    clear hown1 hgrow1
    go_wp2_with fail
    go_ret
    exact ⟨_, _, rfl, ⟨HO2.out, HR.out⟩, HB1.out⟩

end Go.Proofs.Ytlalebaaabdihax
