/- The program's small functions of chapter 2: whether bits are right, the full prefix, a copy of bytes. -/
import Derived.Test.YtcicboolbeognalSmall
import Derived.Test.YtcicboolbeognalPfxNums
import Derived.Lib.SliceRun
namespace Go.Proofs.Ytcicboolbeognal
open Go.RowKit
set_option linter.unusedVariables false

set_option maxHeartbeats 400000 in
theorem bitsOk_yes (x : Int) (w : World) (h1 : 1 ≤ x) (h2 : x ≤ 8) : Calls Try.prog 71 #[.int .i64 x] w fun e w' => e = .returned (.bool true) ∧ w' = w := by
  go_enter Try.func71, Try.ntmps71
  go_wp2
  go_ret
  exact ⟨rfl, rfl⟩

set_option maxHeartbeats 400000 in
theorem bitsOk_no (x : Int) (w : World) (h : x < 1 ∨ 8 < x) : Calls Try.prog 71 #[.int .i64 x] w fun e w' => e = .returned (.bool false) ∧ w' = w := by
  by_cases h1 : x < 1
  · clear h
    go_enter Try.func71, Try.ntmps71
    go_wp2
    go_ret
    exact ⟨rfl, rfl⟩
  · have h2 : 8 < x := by omega
    clear h
    go_enter Try.func71, Try.ntmps71
    go_wp2
    go_ret
    exact ⟨ret_bool (by simp; omega), rfl⟩

set_option maxHeartbeats 400000 in
theorem full_any (B : Nat) (w : World) (h1 : 1 ≤ B) (h8 : B ≤ 8) : Calls Try.prog 73 #[.int .i64 B] w fun e w' => e = .returned (.int .i64 ((2 ^ B - 1 : Nat) : Int)) ∧ w' = w := by
  have hk1 : (1 : Int) ≤ (B : Int) := by omega
  have hk8 : (B : Int) ≤ 8 := by omega
  have hmask := mask_form B h1 h8
  go_enter Try.func73, Try.ntmps73
  go_wp2
  go_ret
  exact ⟨ret_int hmask, rfl⟩

set_option maxHeartbeats 400000 in
theorem clone_any (b off len cap : Nat) (zs : List Int) (w : World) (hs : Seg w (some ⟨b, off, none⟩) len zs) (hl : len ≤ 1099511627776) :
    Calls Try.prog 72 #[.slice (some ⟨b, off, none⟩) len cap] w fun e w' => ∃ a' cap', e = .returned (.slice a' len cap') ∧ Owns w' w.heap.size a' len cap' zs ∧ Below w.heap.size w w' := by
  obtain ⟨i0, hi, hz0, hz1, hz2⟩ := info_parts Try.info5
  have HS : Hid (Seg w (some ⟨b, off, none⟩) len zs) := hs
  have hzl : zs.length = len := hs.1
  have hS1 : Hid (Seg (w.alloc (.cells #[] 5)) (some ⟨b, off, none⟩) len zs) := hs.below ((Below.refl _ _).alloc (Nat.le_refl _) _)
  have hO1 : Hid ((w.alloc (.cells #[] 5)).ownsRow w.heap.size 5 1 (.slice (some ⟨w.heap.size, 0, none⟩) 0 0) 0 []) := World.ownsRow_lit w #[] 0 (Nat.le_refl _) (Nat.zero_le _) rfl
  clear hs
  have qT : ∀ (w : World) (a : Option Addr) (n c n' c' : Nat), (binOp .eql 22 (.slice a n c) (.slice none n' c')).run Try.prog w = .ok (.bool a.isNone) w := fun w a n c n' c' => Lib.run_eql_slice_nil w _ _ a n c n' c' Try.underlying22
  go_enter Try.func72, Try.ntmps72
  go_wp2_with (at_builtin; refine wpList_append_own _ rfl _ _ 22 rfl w.heap.size 5 i0 (.int .u8 0) 1 1 Try.underlying22 hi hz0 hz1 hz2 rfl (by decide) (.slice (some ⟨w.heap.size, 0, none⟩) 0 0) 0 [] rfl hO1.out ⟨b, off, none⟩ len cap (zs.map (Value.int .u8)) rfl (by simp [hzl]) (cells_ints hS1.out) (ints_one zs) (by unfold maxLen; omega) (by omega) (by simp) ?_; intro v1 w1 hown1 hgrow1 _; refine Hid.out ?_)
  refine hidden ?_
  have HO : Hid (w1.ownsRow w.heap.size 5 1 v1 len (zs.map (Value.int .u8))) := by
    show World.ownsRow _ _ _ _ _ _ _
    simpa using hown1
  have HB : Hid (Below w.heap.size w w1) := ((Below.refl _ _).alloc (Nat.le_refl _) _).grown hgrow1 (by simp) (by simp [Value.ownBlock])
  clear hown1 hgrow1 hO1 hS1
  obtain ⟨a', cap', rfl⟩ := shape_of_owns HO.out
  go_wp2_with fail
  go_ret
  exact ⟨a', cap', rfl, ⟨HO.out, HS.out.2.1⟩, HB.out⟩

end Go.Proofs.Ytcicboolbeognal
