/- FnExactFallDisk holds at every disk and every list of truths: the program's FallDisk answers as the specification's does, in memory of its own. -/
import Derived.Test.YtnbmlkkjgecigasRows
import Derived.Test.YtnbmlkkjgecigasWalkFall
import Derived.Test.YtnbmlkkjgecigasDskFallS
import Derived.Test.YtnbmlkkjgecigasDskFallI
import Derived.Test.YtnbmlkkjgecigasDskOpen
import Derived.Test.YtnbmlkkjgecigasBoolOpen
import Derived.WalkKit
import Derived.ProofKit
import Derived.OpenShut
import Derived.ShutString
import Derived.ChangeOld
import Derived.Below
import Derived.Carry
namespace Go.Proofs.Ytnbmlkkjgecigas.fnExactFallDisk
open Go.ChangeShapes Go.WideShapes Go.ChangeAt Go.RowKit
open Go.ChangeMaps (open_string shut_string)
set_option linter.unusedVariables false

theorem own : ownKnob Try.prog.godebug = none := by kernel_rfl

theorem laidOut : laidOutB Try.prog = true := by kernel_rfl

set_option maxRecDepth 100000 in
theorem lifted (os : Os) (started : os.Started) (H : Type) (enc : TypeId × Value → H) :
    ReturnsInHanded {} Try.checked os 4 .any (Rows.fnExactFallDiskSpec.pre6 enc Try.prog Try.f4 Rows.fnExactFallDiskRow.domain false) (Rows.fnExactFallDiskSpec.post enc Try.prog Try.f4 false true false false) := by
  refine returnsInHanded_of_change (C := Try.checked) own started (by kernel_rfl) Try.func4
    (ChangeSpec.witness6 (enc := enc) (C := Try.checked) false ⟨#[], #[.agg #[.slice none 0 0, .slice none 0 0], .slice none 0 0], []⟩ 8 (by kernel_rfl) (by kernel_rfl) (by kernel_rfl) (by kernel_rfl)) ?_
  intro W base args ds gs before hval0 hW hcnd _
  have hval : ∀ (j : Nat) t v, Try.f4.params[j]? = some t → args[j]? = some v → Value.okWide Try.prog W .any base t v := hval0
  have hW' := hW
  obtain ⟨p, q, hA0, hV, rfl, hfz, hnd⟩ := hW
  have hA : DataW.TrodAll enc Try.prog W 0 (fun _ => true) true Try.f4.params.toList args.toList ds p := hA0
  rw [Try.params4] at hA hval
  obtain ⟨v0, vs0, d0, ds0, p0, q0, hargs, rfl, rfl, h0, r0⟩ := trodAll_cons hA
  obtain ⟨v1, vs1, d1, ds1, p1, q1, hargs1, rfl, rfl, h1, r1⟩ := trodAll_cons r0
  obtain ⟨rfl, rfl, rfl⟩ := trodAll_nil r1
  obtain rfl : args = #[v0, v1] := by cases args; simp_all
  obtain ⟨rfl, rfl⟩ := trodVars_none hV
  have k0 := h0
  have lt0 : ∀ x ∈ p0, x.block < W.heap.size := by obtain ⟨m, hm⟩ := k0; exact DataW.trod_lt m _ _ _ hm
  obtain ⟨a0, n0, ca0, xs, a1, n1, ca1, ys, rfl, hl0, hl1, w0, w1d⟩ := disk_opened (hval 0 24 v0 rfl rfl) h0
  have k1 := h1
  have lt1 : ∀ x ∈ p1, x.block < W.heap.size := by obtain ⟨m, hm⟩ := k1; exact DataW.trod_lt m _ _ _ hm
  obtain ⟨ka, km, kc, rfl⟩ := Go.WideShapes.okWide_slice Try.underlying32 (hval 1 32 v1 rfl rfl)
  obtain ⟨fuk, hfk⟩ := h1
  obtain ⟨ka', km', kc', kb, hek, hk0, hkx⟩ := Bools.opened (v := .slice ka km kc) hfk
  injection hek with j1 j2 j3
  subst j1 j2 j3
  clear hA0 hval0
  refine ((fun a0 n0 ca0 xs a1 n1 ca1 ys ka km kc kb W hl0 hl1 w0 w1 hk hb => fallWalk a0 n0 ca0 xs a1 n1 ca1 ys ka km kc kb (fallX xs ys kb) (fallY xs ys kb) W hl0 hl1 w0 w1 hk hb (fun h h' => by have := fallX_len xs ys kb; have := w0.1; have := w1.1; omega) (fun a a' k W h h' hm s s' b => specFall_any a n0 n0 xs a' n1 n1 ys k km km kb W s s' b (by omega) (by omega) (by omega)) (fun a a' k W h h' hm s s' b => implFall_any a n0 n0 xs a' n1 n1 ys k km km kb W s s' b (by omega) (by omega) (by omega))) a0 n0 ca0 xs a1 n1 ca1 ys ka km kc kb W hl0 hl1 w0 w1d hk0 hkx).mono fun e W' ⟨he, bel⟩ => ?_
  subst he
  exact ⟨_, rfl, _, _, _, [], _, [], hW', trodAll_mk1 (shut_bool Try.underlying4 _), (trodAll_cons_mk (Below.trod laidOut (by kernel_rfl) (of_decide_eq_true (by kernel_rfl)) k0 bel lt0) (trodAll_cons_mk (Below.trod laidOut (by kernel_rfl) (of_decide_eq_true (by kernel_rfl)) k1 bel lt1) trodAll_mk0)), rfl, bel.frame _, fun h => by cases h⟩

theorem over : Rows.fnExactFallDiskRow.holds Try.pinned (OpenSpec.ofChange Rows.fnExactFallDiskSpec) :=
  OpenClaim.holds_of_wide 4 Try.f4 rfl rfl rfl rfl rfl rfl rfl ⟨rfl, rfl, rfl, rfl, rfl⟩ rfl rfl rfl rfl rfl (by kernel_rfl) Try.func4 (by kernel_rfl)
    (of_decide_eq_true (by kernel_rfl)) (by unfold Func.isWrapper; first | (rw [if_pos (by decide +kernel)]; kernel_rfl) | (rw [if_neg (by decide +kernel)]; exact ⟨rfl, rfl⟩))
    (fun os started H enc _ => lifted os started H enc)

theorem proved : Rows.FnExactFallDiskSaid :=
  over
#print axioms proved
end Go.Proofs.Ytnbmlkkjgecigas.fnExactFallDisk
