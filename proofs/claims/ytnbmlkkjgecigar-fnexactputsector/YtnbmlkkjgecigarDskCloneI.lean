/- The library's Clone of texts, and the program's copy of a disk: the same in memory of its own. -/
import Derived.Lib.SliceRun
import Derived.Deep.RegionHeld3
import Derived.Test.YtnbmlkkjgecigarDskAns
import Derived.Test.YtnbmlkkjgecigarTabStep
namespace Go.Proofs.Ytnbmlkkjgecigar
open Go.RowKit
set_option linter.unusedVariables false

theorem cloneRow_shape {w : World} {base n : Nat} {v : Value} {xs : List Value} (h : w.ownsRow base 9 1 v n xs) : ∃ a cap, v = .slice a n cap := by
  rcases h.2 with ⟨rfl, rfl⟩ | ⟨g, cap, cur, rfl, _⟩
  · exact ⟨_, _, rfl⟩
  · exact ⟨_, _, rfl⟩

set_option maxRecDepth 10000 in
set_option maxHeartbeats 400000 in
theorem cloneS_any (a : Option Addr) (len cap : Nat) (l : List ByteArray) (w : World) (hs : Strs w a len l) (hl : len ≤ 2097152) :
    Calls Try.prog 33 #[.slice a len cap] w fun e w' => (∃ a' cap', e = .returned (.slice a' len cap') ∧ OwnSt w' w.heap.size (.slice a' len cap') len l) ∧ Below w.heap.size w w' := by
  obtain ⟨i0, hi, hz0, hz1, hz2⟩ := info_parts info_string
  have qT : ∀ (w : World) (a : Option Addr) (n c n' c' : Nat), (binOp .eql 22 (.slice a n c) (.slice none n' c')).run Try.prog w = .ok (.bool a.isNone) w := fun w a n c n' c' => Lib.run_eql_slice_nil w _ _ a n c n' c' Try.underlying22
  cases a with
  | none =>
    have h0 := hs.none_nil rfl
    subst h0
    obtain rfl : l = [] := List.eq_nil_of_length_eq_zero hs.1
    go_enter Try.func33, Try.ntmps33
    go_wp2
    go_ret
    exact ⟨⟨none, 0, rfl, ⟨World.ownsRow_nil _ _ _ _, by simp⟩⟩, Below.refl _ _⟩
  | some ad =>
    have hzl : l.length = len := hs.1
    have HR : Hid (∀ x ∈ l, x.size ≤ maxLen) := hs.2.1
    have HS1 : Hid (Strs (w.alloc (.cells #[] 9)) (some ad) len l) := hs.below ((Below.refl _ _).alloc (Nat.le_refl _) _)
    have HO1 : Hid ((w.alloc (.cells #[] 9)).ownsRow w.heap.size 9 1 (.slice (some ⟨w.heap.size, 0, none⟩) 0 0) 0 []) := World.ownsRow_lit w #[] 0 (Nat.le_refl _) (Nat.zero_le _) rfl
    clear hs
    go_enter Try.func33, Try.ntmps33
    go_wp2_with (at_builtin; refine wpList_append_own _ rfl _ _ 22 rfl w.heap.size 9 i0 (.string ⟨#[]⟩) 1 16 Try.underlying22 hi hz0 hz1 hz2 rfl (by decide) (.slice (some ⟨w.heap.size, 0, none⟩) 0 0) 0 [] rfl HO1.out ad len cap (scells l) rfl (by rw [scells_len, hzl, Nat.mul_one]) (HS1.out.cells ad rfl) (scells_one l) (by unfold maxLen; omega) (by omega) (by simp) ?_; intro v1 w1 hown1 hgrow1 _; refine Hid.out ?_)
    refine hidden ?_
    have HB1 : Hid (Below w.heap.size w w1) := ((Below.refl _ _).alloc (Nat.le_refl _) _).grown hgrow1 (by simp) (by simp [Value.ownBlock])
    obtain ⟨a1, c1, rfl⟩ := cloneRow_shape hown1
    have HO2 : Hid (w1.ownsRow w.heap.size 9 1 (.slice a1 len c1) len (scells l)) := by
      show World.ownsRow _ _ _ _ _ _ _
      have h := hown1
      rw [Nat.zero_add] at h
      simpa using h
    have hll : 0 + len = len := Nat.zero_add _
    rw [hll]
    clear hown1 hgrow1
    go_wp2_with fail
    go_ret
    exact ⟨⟨_, _, rfl, ⟨HO2.out, HR.out⟩⟩, HB1.out⟩

end Go.Proofs.Ytnbmlkkjgecigar
