/- The marks laid into a frame's body. -/
import Derived.Test.YtghakpcagacdaanBox4
import Derived.Test.YtghakpcagacdaanMarkB
namespace Go.Proofs.Ytghakpcagacdaan
open Go.RowKit
set_option linter.unusedVariables false

set_option maxHeartbeats 800000 in
theorem markFrame_any (k f s : Int) (base : Nat) (a : Option Addr) (n cap : Nat) (zs : List Int) (w : World) (h : Owns w base a n cap zs) (hn : n ≤ 1099511627776) :
    Calls Try.prog 25 #[.agg #[.int .i64 k, .int .i64 f, .int .i64 s, .slice a n cap], .int .i64 1] w fun e w' => e = .returned (.int .i64 ((1 + n : Nat) : Int)) ∧ Owns w' base a n cap (marks 1 n) ∧ Only w w' a := by
  have HO : Hid (Owns w base a n cap zs) := h
  clear h
  have HB : Hid (Below w.heap.size w (w.alloc (.cells #[.int .i64 k, .int .i64 f, .int .i64 s, .slice a n cap] 40))) := (Below.refl _ _).alloc (Nat.le_refl _) _
  go_enter Try.func25, Try.ntmps25
  go_wp2_with fail
  refine (mark_one base a n cap zs _ (HO.out.below HB.out) (by omega)).mono ?_
  rintro e x1 ⟨rfl, ho, hg⟩
  have HO2 : Hid (Owns x1 base a n cap (marks 1 n)) := ho
  have HG2 : Hid (Only w x1 a) := by
    have h1 := HB.out
    have h2 : World.grownBy _ _ _ := hg
    exact ⟨h2.os.trans h1.os, h2.tape.trans h1.tape, h2.output.trans h1.output, Nat.le_trans h1.size h2.size, fun i hi hne => (h2.block i (Nat.lt_of_lt_of_le hi h1.size) hne).trans (h1.block i hi)⟩
  clear ho hg
  obtain ⟨q, hq⟩ : ∃ q, 1 + n = q := ⟨_, rfl⟩
  have HQ : Hid (1 + n = q) := hq
  rw [hq]
  clear hq
  go_wp2_with fail
  go_ret
  exact ⟨ret_int (by rw [HQ.out]), HO2.out, HG2.out⟩

end Go.Proofs.Ytghakpcagacdaan
