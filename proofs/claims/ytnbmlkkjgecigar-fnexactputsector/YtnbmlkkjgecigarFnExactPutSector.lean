/- FnExactPutSector holds at every disk, number and text: the program's PutSector answers as the specification's does, in memory of its own. -/
import Derived.Test.YtnbmlkkjgecigarRows
import Derived.Test.YtnbmlkkjgecigarWalkDskPut
import Derived.Test.YtnbmlkkjgecigarDskPutS
import Derived.Test.YtnbmlkkjgecigarDskPutI
import Derived.Test.YtnbmlkkjgecigarDskOpen
import Derived.WalkKit
import Derived.ProofKit
import Derived.OpenShut
import Derived.ShutString
import Derived.ChangeOld
import Derived.Below
import Derived.Carry
namespace Go.Proofs.Ytnbmlkkjgecigar.fnExactPutSector
open Go.ChangeShapes Go.WideShapes Go.ChangeAt Go.RowKit
open Go.ChangeMaps (open_string shut_string)
set_option linter.unusedVariables false

theorem own : ownKnob Try.prog.godebug = none := by kernel_rfl

theorem laidOut : laidOutB Try.prog = true := by kernel_rfl

set_option maxRecDepth 100000 in
theorem lifted (os : Os) (started : os.Started) (H : Type) (enc : TypeId × Value → H) :
    ReturnsInHanded {} Try.checked os 6 .any (Rows.fnExactPutSectorSpec.pre6 enc Try.prog Try.f6 Rows.fnExactPutSectorRow.domain false) (Rows.fnExactPutSectorSpec.post enc Try.prog Try.f6 false true false false) := by
  refine returnsInHanded_of_change (C := Try.checked) own started (by kernel_rfl) Try.func6
    (ChangeSpec.witness6 (enc := enc) (C := Try.checked) false ⟨#[], #[.agg #[.slice none 0 0, .slice none 0 0], .int .i64 0, .string ⟨#[]⟩], []⟩ 8 (by kernel_rfl) (by kernel_rfl) (by kernel_rfl) (by kernel_rfl)) ?_
  intro W base args ds gs before hval0 hW hcnd _
  have hval : ∀ (j : Nat) t v, Try.f6.params[j]? = some t → args[j]? = some v → Value.okWide Try.prog W .any base t v := hval0
  have hW' := hW
  obtain ⟨p, q, hA0, hV, rfl, hfz, hnd⟩ := hW
  have hA : DataW.TrodAll enc Try.prog W 0 (fun _ => true) true Try.f6.params.toList args.toList ds p := hA0
  rw [Try.params6] at hA hval
  obtain ⟨v0, vs0, d0, ds0, p0, q0, hargs, rfl, rfl, h0, r0⟩ := trodAll_cons hA
  obtain ⟨v1, vs1, d1, ds1, p1, q1, hargs1, rfl, rfl, h1, r1⟩ := trodAll_cons r0
  obtain ⟨v2, vs2, d2, ds2, p2, q2, hargs2, rfl, rfl, h2, r2⟩ := trodAll_cons r1
  obtain ⟨rfl, rfl, rfl⟩ := trodAll_nil r2
  obtain rfl : args = #[v0, v1, v2] := by cases args; simp_all
  obtain ⟨rfl, rfl⟩ := trodVars_none hV
  have k0 := h0
  have lt0 : ∀ x ∈ p0, x.block < W.heap.size := by obtain ⟨m, hm⟩ := k0; exact DataW.trod_lt m _ _ _ hm
  obtain ⟨a0, n0, ca0, xs, a1, n1, ca1, ys, rfl, hl0, hl1, w0, w1d⟩ := disk_opened (hval 0 29 v0 rfl rfl) h0
  obtain ⟨b1, rfl, rfl, rfl, w1⟩ := open_int Try.underlying3 (hval 1 3 v1 rfl rfl) h1
  obtain ⟨b2, rfl, rfl, rfl, w2⟩ := open_string Try.underlying9 (hval 2 9 v2 rfl rfl) h2
  clear hA0 hval0
  refine ((fun a0 n0 ca0 xs a1 n1 ca1 ys i s W hl0 hl1 w0 w1 hi hs => putWalk a0 n0 ca0 xs a1 n1 ca1 ys i s (putX xs ys i s) ys (mayPut xs ys i s) W hl0 hl1 w0 w1 hs (fun h h' => by have := w0.1; have := w1.1; rw [putX_len]; omega) (fun a a' W h h' s1 s2 => specPutD_any a n0 n0 xs a' n1 n1 ys i s W s1 s2 (by omega) (by omega) hs) (fun a a' W h h' s1 s2 => implPutD_any a n0 n0 xs a' n1 n1 ys i s W s1 s2 (by omega) (by omega) hs)) a0 n0 ca0 xs a1 n1 ca1 ys b1 b2 W hl0 hl1 w0 w1d (bounds_i64 w1) w2).mono fun e W' ⟨he, bel⟩ => ?_
  subst he
  exact ⟨_, rfl, _, _, _, [], _, [], hW', trodAll_mk1 (shut_bool Try.underlying4 _), (trodAll_cons_mk (Below.trod laidOut (by kernel_rfl) (of_decide_eq_true (by kernel_rfl)) k0 bel lt0) (trodAll_cons_mk (shut_int Try.underlying3 w1) (trodAll_cons_mk (shut_string Try.underlying9 w2) trodAll_mk0))), rfl, bel.frame _, fun h => by cases h⟩

theorem over : Rows.fnExactPutSectorRow.holds Try.pinned (OpenSpec.ofChange Rows.fnExactPutSectorSpec) :=
  OpenClaim.holds_of_wide 6 Try.f6 rfl rfl rfl rfl rfl rfl rfl ⟨rfl, rfl, rfl, rfl, rfl⟩ rfl rfl rfl rfl rfl (by kernel_rfl) Try.func6 (by kernel_rfl)
    (of_decide_eq_true (by kernel_rfl)) (by unfold Func.isWrapper; first | (rw [if_pos (by decide +kernel)]; kernel_rfl) | (rw [if_neg (by decide +kernel)]; exact ⟨rfl, rfl⟩))
    (fun os started H enc _ => lifted os started H enc)

theorem proved : Rows.FnExactPutSectorSaid :=
  over
#print axioms proved
end Go.Proofs.Ytnbmlkkjgecigar.fnExactPutSector
