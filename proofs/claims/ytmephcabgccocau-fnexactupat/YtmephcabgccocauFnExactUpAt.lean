/- UpAt answers as the specification's: the law. -/
import Derived.Test.YtmephcabgccocauRows
import Derived.Test.YtmephcabgccocauM13
import Derived.Test.YtmephcabgccocauM15
import Derived.Test.YtmephcabgccocauM16
import Derived.WalkKit
import Derived.ProofKit
import Derived.OpenShut
import Derived.ShutString
import Derived.ChangeOld
import Derived.Below
import Derived.Carry
namespace Go.Proofs.Ytmephcabgccocau.fnExactUpAt
open Go.ChangeShapes Go.WideShapes Go.ChangeAt Go.RowKit
open Go.ChangeMaps (open_string shut_string)
set_option linter.unusedVariables false

theorem own : ownKnob Try.prog.godebug = none := by kernel_rfl

theorem laidOut : laidOutB Try.prog = true := by kernel_rfl

set_option maxRecDepth 100000 in
theorem lifted (os : Os) (started : os.Started) (H : Type) (enc : TypeId × Value → H) :
    ReturnsInHanded {} Try.checked os 3 .any (Rows.fnExactUpAtSpec.pre6 enc Try.prog Try.f3 Rows.fnExactUpAtRow.domain false) (Rows.fnExactUpAtSpec.post enc Try.prog Try.f3 false true false false) := by
  refine returnsInHanded_of_change (C := Try.checked) own started (by kernel_rfl) Try.func3
    (ChangeSpec.witness6 (enc := enc) (C := Try.checked) false ⟨#[], #[.agg #[.slice none 0 0, .slice none 0 0, .int .i64 0, .int .i64 0, .slice none 0 0], .string ⟨#[]⟩], []⟩ 8 (by kernel_rfl) (by kernel_rfl) (by kernel_rfl) (by kernel_rfl)) ?_
  intro W base args ds gs before hval0 hW hcnd _
  have hval : ∀ (j : Nat) t v, Try.f3.params[j]? = some t → args[j]? = some v → Value.okWide Try.prog W .any base t v := hval0
  have hW' := hW
  obtain ⟨p, q, hA0, hV, rfl, hfz, hnd⟩ := hW
  have hA : DataW.TrodAll enc Try.prog W 0 (fun _ => true) true Try.f3.params.toList args.toList ds p := hA0
  rw [Try.params3] at hA hval
  obtain ⟨v0, vs0, d0, ds0, p0, q0, hargs, rfl, rfl, h0, r0⟩ := trodAll_cons hA
  obtain ⟨v1, vs1, d1, ds1, p1, q1, hargs1, rfl, rfl, h1, r1⟩ := trodAll_cons r0
  obtain ⟨rfl, rfl, rfl⟩ := trodAll_nil r1
  obtain rfl : args = #[v0, v1] := by cases args; simp_all
  obtain ⟨rfl, rfl⟩ := trodVars_none hV
  have k0 := h0
  have lt0 : ∀ x ∈ p0, x.block < W.heap.size := by obtain ⟨m, hm⟩ := k0; exact DataW.trod_lt m _ _ _ hm
  obtain ⟨a0, n0, ca0, xs, a1, n1, ca1, ys, ep, nx, ua, un, uc, l, rfl, hl0, hl1, hlu, w0, w1d, wu, wep, wnx⟩ := store_opened (hval 0 27 v0 rfl rfl) h0
  obtain ⟨b1, rfl, rfl, rfl, w1⟩ := open_string Try.underlying9 (hval 1 9 v1 rfl rfl) h1
  clear hA0 hval0
  refine ((fun a0 n0 ca0 xs a1 n1 ca1 ys ep nx ua un uc l id W hl0 hl1 hlu w0 w1 wu hs => upAtWalk a0 n0 ca0 xs a1 n1 ca1 ys ep nx ua un uc l id W hl0 hl1 hlu w0 w1 wu hs (fun a a' ga lo l' W h hn hb hz => specUpAt_any a n0 n0 a' n1 n1 ep nx ga un un lo l' id W h hn (by omega) (fun e he => by have := hz e he; omega)) (fun a a' ga lo l' W h hn hb hz => implUpAt_any a n0 n0 a' n1 n1 ep nx ga un un lo l' id W h hn (by omega) (fun e he => by have := hz e he; omega))) a0 n0 ca0 xs a1 n1 ca1 ys ep nx ua un uc l b1 W hl0 hl1 hlu w0 w1d wu w1).mono fun e W' ⟨he, bel⟩ => ?_
  subst he
  exact ⟨_, rfl, _, _, _, [], _, [], hW', trodAll_mk1 (shut_bool Try.underlying4 _), (trodAll_cons_mk (Below.trod laidOut (by kernel_rfl) (of_decide_eq_true (by kernel_rfl)) k0 bel lt0) (trodAll_cons_mk (shut_string Try.underlying9 w1) trodAll_mk0)), rfl, bel.frame _, fun h => by cases h⟩

theorem over : Rows.fnExactUpAtRow.holds Try.pinned (OpenSpec.ofChange Rows.fnExactUpAtSpec) :=
  OpenClaim.holds_of_wide 3 Try.f3 rfl rfl rfl rfl rfl rfl rfl ⟨rfl, rfl, rfl, rfl, rfl⟩ rfl rfl rfl rfl rfl (by kernel_rfl) Try.func3 (by kernel_rfl)
    (of_decide_eq_true (by kernel_rfl)) (by unfold Func.isWrapper; first | (rw [if_pos (by decide +kernel)]; kernel_rfl) | (rw [if_neg (by decide +kernel)]; exact ⟨rfl, rfl⟩))
    (fun os started H enc _ => lifted os started H enc)

theorem proved : Rows.FnExactUpAtSaid :=
  over
#print axioms proved
end Go.Proofs.Ytmephcabgccocau.fnExactUpAt
