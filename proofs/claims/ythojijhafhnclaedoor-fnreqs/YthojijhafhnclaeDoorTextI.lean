/- What the program's Text answers: the digits of a number of 0 to 10^9, else the empty text. Under the library's table. -/
import Derived.Test.YthojijhafhnclaeDoorNumUp
import Derived.WalkSpells
import Derived.Lib.AppendIntMem
namespace Go.Proofs.YthojijhafhnclaeDoor
open Go.RowKit
set_option linter.unusedVariables false

/-- What Text answers. -/
def txt (n : Int) : List UInt8 := if 0 ≤ n ∧ n ≤ 1000000000 then Lib.decDigits n.toNat else []

set_option maxHeartbeats 400000 in
theorem implText_any (n : Int) (w : World) (htab : Lib.TabIs Tryd.prog w "internal/strconv.uint64pow10" .u64 Lib.pow10Tab) :
    Calls Tryd.prog 26 #[.int .i64 n] w fun e w' => e = .returned (.string ⟨(txt n).toArray⟩) ∧ Below w.heap.size w w' := by
  have HT : Hid _ := htab
  clear htab
  by_cases h : 0 ≤ n ∧ n ≤ 1000000000
  · obtain ⟨u, rfl⟩ := Int.eq_ofNat_of_zero_le h.1
    rw [txt, if_pos h, Int.toNat_natCast]
    have h0 : (0 : Int) ≤ (u : Int) := h.1
    have h1 : (u : Int) ≤ 1000000000 := h.2
    clear h
    rw [← Lib.itoa_nonneg]
    generalize hI : (⟨(Lib.itoa (u : Int)).toArray⟩ : ByteArray) = I
    have HI : Hid (_ = I) := hI
    clear hI
    go_enter Tryd.func26, Tryd.ntmps26
    go_wp2_with (go_at_call 18; refine (Tryd.strconv_Itoa _ (by omega) (by omega) _ HT.out).mono ?_; rintro e w' ⟨rfl, k, os, rfl⟩; rw [HI.out])
    go_ret
    exact ⟨rfl, Lib.below_grow _ _ (Nat.le_refl _) _ _⟩
  · rw [txt, if_neg h]
    by_cases hn : n < 0
    · clear h
      go_enter Tryd.func26, Tryd.ntmps26
      go_wp2_with fail
      go_ret
      exact ⟨rfl, Below.refl _ _⟩
    · have h1 : 1000000000 < n := by omega
      clear h
      go_enter Tryd.func26, Tryd.ntmps26
      go_wp2_with fail
      go_ret
      exact ⟨rfl, Below.refl _ _⟩

end Go.Proofs.YthojijhafhnclaeDoor
