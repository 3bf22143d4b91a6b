/- A frame held against another one that says the same. -/
import Derived.Test.YtpjldfpipchmjaoBox4
import Derived.Test.YtpjldfpipchmjaoWalkB
namespace Go.Proofs.Ytpjldfpipchmjao
open Go.RowKit
set_option linter.unusedVariables false

set_option maxHeartbeats 800000 in
theorem eqFrame_same (k f s : Int) (a b : Option Addr) (len ca cb : Nat) (xs : List Int) (w : World) (hx : Seg w a len xs) (hy : Seg w b len xs) (hla : len ≤ 1099511627776) :
    Calls Try.prog 17 #[.agg #[.int .i64 k, .int .i64 f, .int .i64 s, .slice a len ca], .agg #[.int .i64 k, .int .i64 f, .int .i64 s, .slice b len cb]] w fun e w' => e = .returned (.bool true) ∧ Below w.heap.size w w' := by
  have HX : Hid (Seg w a len xs) := hx
  have HY : Hid (Seg w b len xs) := hy
  clear hx hy
  have n0 : (k != k) = false := by simp
  have n1 : (f != f) = false := by simp
  have n2 : (s != s) = false := by simp
  go_enter Try.func17, Try.ntmps17
  go_wp2_with fail
  have hba : Below w.heap.size w ((w.alloc (Obj.cells #[Value.int IntKind.i64 k, Value.int IntKind.i64 f, Value.int IntKind.i64 s, Value.slice a len ca] 33)).alloc (Obj.cells #[Value.int IntKind.i64 k, Value.int IntKind.i64 f, Value.int IntKind.i64 s, Value.slice b len cb] 33)) := ((Below.refl _ _).alloc (Nat.le_refl _) _).alloc (by simp) _
  refine (eqByteS_same a b len ca cb xs _ (HX.out.below hba) (HY.out.below hba) hla).mono ?_
  rintro e x3 ⟨rfl, st3⟩
  have HB3 : Hid (Below w.heap.size w x3) := Still.below st3 hba
  clear st3 hba
  go_wp2
  go_ret
  exact ⟨rfl, HB3.out⟩

end Go.Proofs.Ytpjldfpipchmjao
