/- The walk of the law that a run of the program answers as the specification's, for every list of events. -/
import Derived.Test.YtcfinhepcpjcnaoDoorStmRun
import Derived.Test.YtcfinhepcpjcnaoDoorStmRunS
import Derived.Test.YtcfinhepcpjcnaoDoorWalkI
namespace Go.Proofs.YtcfinhepcpjcnaoDoor
open Go.RowKit
set_option linter.unusedVariables false

set_option maxHeartbeats 400000 in
theorem stmRunWalk (a : Option Addr) (len cap : Nat) (zs : List Int) (w : World) (hm : len ≤ maxLen) (hs : SegI w a len zs) (hT : StmT w) :
    Calls Tryd.prog 5 #[.slice a len cap] w fun e w' => e = .returned (.bool true) ∧ Below w.heap.size w w' := by
  have HS : Hid (SegI w a len zs) := hs
  have HT : Hid (StmT w) := hT
  clear hs hT
  by_cases hbig : 1048576 < len
  · have hbi : (1048576 : Int) < (len : Int) := by omega
    go_enter Tryd.func5, Tryd.ntmps5
    go_wp2
    go_ret
    exact ⟨rfl, Below.refl _ _⟩
  have hbi : ¬ (1048576 : Int) < (len : Int) := by omega
  have hl : len ≤ 1099511627776 := by omega
  clear hbig
  obtain ⟨n, p, hp⟩ : ∃ (n : Int) (p : Nat), runN 0 zs = (n, p) := ⟨_, _, rfl⟩
  have HP : Hid (∀ (a : Option Addr) (W : World), SegI W a len zs → Calls Tryd.prog 24 #[.slice a len len] W fun e w' => e = .returned (.tuple #[.int .i64 n, .int .i64 p]) ∧ w' = W) := fun a W h => by
    have := specRun_any a len len zs W h hl
    rw [hp] at this
    exact this
  have HI : Hid (∀ (a : Option Addr) (W : World), StmT W → SegI W a len zs → Calls Tryd.prog 26 #[.slice a len len] W fun e w' => e = .returned (.tuple #[.int .i64 n, .int .i64 p]) ∧ w' = W) := fun a W t h => by
    have := implRun_any a len len zs W t h hl
    rw [hp] at this
    exact this
  clear hp
  go_enter Tryd.func5, Tryd.ntmps5
  go_wp2_with fail
  refine (toIntS_any _ _ _ _ _ HS.out hl).mono ?_
  rintro e x1 ⟨rfl, ho1, hb1⟩
  have S1 : Hid (SegI x1 (some ⟨w.heap.size, 0, none⟩) len zs) := SegI.ofOwn ho1
  have HB1 : Hid (Below w.heap.size w x1) := hb1
  clear ho1 hb1
  go_wp2_with fail
  refine (HP.out _ x1 S1.out).mono ?_
  rintro e x ⟨rfl, hx⟩
  subst hx
  go_wp2_with fail
  refine (toIntS_any _ _ _ _ _ (HS.out.below HB1.out) hl).mono ?_
  rintro e x2 ⟨rfl, ho2, hb2⟩
  have S2 : Hid (SegI x2 (some ⟨x.heap.size, 0, none⟩) len zs) := SegI.ofOwn ho2
  have HB2 : Hid (Below w.heap.size w x2) := HB1.out.trans (hb2.mono HB1.out.size)
  clear ho2 hb2 S1
  go_wp2_with fail
  refine (HI.out _ x2 (HT.out.below HB2.out) S2.out).mono ?_
  rintro e y ⟨rfl, hy⟩
  subst hy
  have h1 : (n != n) = false := by simp
  have h2 : ((p : Int) != (p : Int)) = false := by simp
  go_wp2_with fail
  refine (toIntS_any _ _ _ _ _ (HS.out.below HB2.out) hl).mono ?_
  rintro e x3 ⟨rfl, ho3, hb3⟩
  have S3 : Hid (SegI x3 (some ⟨y.heap.size, 0, none⟩) len zs) := SegI.ofOwn ho3
  have S4 : Hid (SegI x3 (some ⟨x.heap.size, 0, none⟩) len zs) := S2.out.below hb3
  have HB3 : Hid (Below w.heap.size w x3) := HB2.out.trans (hb3.mono HB2.out.size)
  clear ho3 hb3 S2
  go_wp2_with fail
  refine (eqIntS_same _ _ _ _ _ _ _ S4.out S3.out hl).mono ?_
  rintro e x4 ⟨rfl, st⟩
  have HB4 : Hid (Below w.heap.size w x4) := Still.below st HB3.out
  clear st
  go_wp2_with fail
  go_ret
  exact ⟨rfl, HB4.out⟩

end Go.Proofs.YtcfinhepcpjcnaoDoor
