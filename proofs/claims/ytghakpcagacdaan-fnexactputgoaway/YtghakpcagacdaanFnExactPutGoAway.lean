/- PutGoAway answers as the specification's at every two numbers; its answer owns its memory. -/
import Derived.Test.YtghakpcagacdaanRows
import Derived.Test.YtghakpcagacdaanAwayPS
import Derived.Test.YtghakpcagacdaanMarkB
import Derived.WalkKit
import Derived.ProofKit
import Derived.OpenShut
import Derived.ShutString
namespace Go.Proofs.Ytghakpcagacdaan.fnExactPutGoAway
open Go.ChangeShapes Go.WideShapes Go.ChangeAt Go.RowKit
open Go.ChangeMaps (open_string shut_string)
set_option linter.unusedVariables false      -- a walk need not use every 'w<i>' (that an integer argument fits its kind)

theorem own : ownKnob Try.prog.godebug = none := by kernel_rfl

theorem walk (a0 : Int) (a1 : Int) (w0 : (Lit.int .i64 a0).wf = true) (w1 : (Lit.int .i64 a1).wf = true) (w : World) :
    Calls Try.prog 3 #[.int .i64 a0, .int .i64 a1] w fun e w' => e = .returned (.bool true) ∧ Below w.heap.size w w' := by
  have B0 : Hid (a0 ≤ 9223372036854775807) := (bounds_i64 w0).2
  have B1 : Hid (a1 ≤ 9223372036854775807) := (bounds_i64 w1).2
  clear w0 w1
  have HI : Hid (∀ W : World, Calls Try.prog 9 #[.int .i64 a0, .int .i64 a1] W fun e w' => ∃ g cap', e = .returned (.slice (some ⟨g, 0, none⟩) 8 cap') ∧ Owns w' W.heap.size (some ⟨g, 0, none⟩) 8 cap' (awayB a0 a1) ∧ Below W.heap.size W w') := fun W => implAwayP_any a0 a1 W B0.out B1.out
  have HSp : Hid (∀ W : World, Calls Try.prog 8 #[.int .i64 a0, .int .i64 a1] W fun e w' => ∃ g cap', e = .returned (.slice (some ⟨g, 0, none⟩) 8 cap') ∧ Owns w' W.heap.size (some ⟨g, 0, none⟩) 8 cap' (awayB a0 a1) ∧ Below W.heap.size W w') := fun W => specAwayP_any a0 a1 W B0.out B1.out
  generalize awayB a0 a1 = g at *
  clear B0 B1
  go_enter Try.func3, Try.ntmps3
  go_wp2_with fail
  refine (HSp.out w).mono ?_
  rintro e x1 ⟨gw, cw, rfl, ow1, hb1⟩
  have OW1 : Hid (Owns x1 w.heap.size (some ⟨gw, 0, none⟩) 8 cw g) := ow1
  have HB1 : Hid (Below w.heap.size w x1) := hb1
  clear ow1 hb1
  go_wp2_with fail
  refine (HI.out x1).mono ?_
  rintro e x2 ⟨gg, cg, rfl, og2, hb2⟩
  have OG2 : Hid (Owns x2 x1.heap.size (some ⟨gg, 0, none⟩) 8 cg g) := og2
  have OW2 : Hid (Owns x2 w.heap.size (some ⟨gw, 0, none⟩) 8 cw g) := OW1.out.below hb2
  have HB2 : Hid (Below w.heap.size w x2) := HB1.out.trans (hb2.mono HB1.out.size)
  have hne : Hid (gw < gg) := by show _ < _; have h1 := (OW1.out.lt gw rfl).2; have h2 := (og2.lt gg rfl).1; omega
  have hgg : Hid (w.heap.size ≤ gg) := by show _ ≤ _; have h1 := HB1.out.size; have h2 := (og2.lt gg rfl).1; omega
  clear og2 hb2 OW1 HB1
  go_wp2_with fail
  refine (eqByteS_same _ _ _ _ _ _ _ OG2.out.seg OW2.out.seg (by omega)).mono ?_
  rintro e x3 ⟨rfl, st3⟩
  have OG3 : Hid (Owns x3 x1.heap.size (some ⟨gg, 0, none⟩) 8 cg g) := Still.owns st3 OG2.out
  have OW3 : Hid (Owns x3 w.heap.size (some ⟨gw, 0, none⟩) 8 cw g) := Still.owns st3 OW2.out
  have HB3 : Hid (Below w.heap.size w x3) := Still.below st3 HB2.out
  clear st3 OG2 OW2 HB2
  go_wp2_with fail
  refine (mark_one _ _ _ _ _ _ OG3.out (by omega)).mono ?_
  rintro e x4 ⟨rfl, og4, on4⟩
  have OG4 : Hid (Owns x4 x1.heap.size (some ⟨gg, 0, none⟩) 8 cg (marks 1 8)) := og4
  have OW4 : Hid (Owns x4 w.heap.size (some ⟨gw, 0, none⟩) 8 cw g) := OW3.out.only on4 (.inr (fun h => by have := hne.out; simp at h; omega))
  have HB4 : Hid (Below w.heap.size w x4) := on4.below HB3.out HB3.out.size (fun k hk => by have := hgg.out; simp at hk; omega)
  clear og4 on4 OG3 OW3 HB3
  go_wp2_with fail
  refine (held_one _ _ _ _ _ OG4.out (by omega)).mono ?_
  rintro e x5 ⟨rfl, rfl⟩
  go_wp2_with fail
  refine (HI.out x5).mono ?_
  rintro e x6 ⟨gh, ch, rfl, oh6, hb6⟩
  have OH6 : Hid (Owns x6 x5.heap.size (some ⟨gh, 0, none⟩) 8 ch g) := oh6
  have OG6 : Hid (Owns x6 x1.heap.size (some ⟨gg, 0, none⟩) 8 cg (marks 1 8)) := OG4.out.below hb6
  have OW6 : Hid (Owns x6 w.heap.size (some ⟨gw, 0, none⟩) 8 cw g) := OW4.out.below hb6
  have HB6 : Hid (Below w.heap.size w x6) := HB4.out.trans (hb6.mono HB4.out.size)
  clear oh6 hb6 OG4 OW4
  go_wp2_with fail
  refine (eqByteS_same _ _ _ _ _ _ _ OH6.out.seg OW6.out.seg (by omega)).mono ?_
  rintro e x7 ⟨rfl, st7⟩
  have OG7 : Hid (Owns x7 x1.heap.size (some ⟨gg, 0, none⟩) 8 cg (marks 1 8)) := Still.owns st7 OG6.out
  have HB7 : Hid (Below w.heap.size w x7) := Still.below st7 HB6.out
  clear st7 OG6 OW6 OH6
  go_wp2_with fail
  refine (held_one _ _ _ _ _ OG7.out (by omega)).mono ?_
  rintro e x8 ⟨rfl, rfl⟩
  go_wp2
  go_ret
  exact ⟨rfl, HB7.out⟩

set_option maxRecDepth 100000 in
theorem lifted (os : Os) (started : os.Started) (H : Type) (enc : TypeId × Value → H) :
    ReturnsInHanded {} Try.checked os 3 .any (Rows.fnExactPutGoAwaySpec.pre6 enc Try.prog Try.f3 Rows.fnExactPutGoAwayRow.domain false) (Rows.fnExactPutGoAwaySpec.post enc Try.prog Try.f3 false true false false) := by
  refine returnsInHanded_of_change (C := Try.checked) own started (by kernel_rfl) Try.func3
    (ChangeSpec.witness6 (enc := enc) (C := Try.checked) false ⟨#[], #[.int .i64 0, .int .i64 0], []⟩ 8 (by kernel_rfl) (by kernel_rfl) (by kernel_rfl) (by kernel_rfl)) ?_
  intro W base args ds gs before hval0 hW hcnd _
  have hval : ∀ (j : Nat) t v, Try.f3.params[j]? = some t → args[j]? = some v → Value.okWide Try.prog W .any base t v := hval0
  have hW' := hW
  obtain ⟨p, q, hA0, hV, rfl, hfz, hnd⟩ := hW
  have hA : DataW.TrodAll enc Try.prog W 0 (fun _ => true) true Try.f3.params.toList args.toList ds p := hA0
  rw [Try.params3] at hA hval
  obtain ⟨v0, vs0, d0, ds0, p0, q0, hargs, rfl, rfl, h0, r0⟩ := trodAll_cons hA
  obtain ⟨v1, vs1, d1, ds1, p1, q1, rfl, rfl, rfl, h1, r1⟩ := trodAll_cons r0
  obtain ⟨rfl, rfl, rfl⟩ := trodAll_nil r1
  obtain rfl : args = #[v0, v1] := by cases args; simp_all
  obtain ⟨rfl, rfl⟩ := trodVars_none hV
  obtain ⟨a0, rfl, rfl, rfl, w0⟩ := open_int Try.underlying3 (hval 0 3 v0 rfl rfl) h0
  obtain ⟨a1, rfl, rfl, rfl, w1⟩ := open_int Try.underlying3 (hval 1 3 v1 rfl rfl) h1
  clear hA0 hval0
  simp only [List.append_nil] at hW'
  refine (walk a0 a1 w0 w1 W).mono fun e W' ⟨he, hg⟩ => ?_
  subst he
  exact ⟨_, rfl, _, _, _, [], _, [], hW', trodAll_mk1 (shut_bool Try.underlying4 _), (trodAll_cons_mk (shut_int Try.underlying3 w0) (trodAll_cons_mk (shut_int Try.underlying3 w1) trodAll_mk0)), rfl, hg.frame _, fun h => by cases h⟩

theorem over : Rows.fnExactPutGoAwayRow.holds Try.pinned (OpenSpec.ofChange Rows.fnExactPutGoAwaySpec) :=
  OpenClaim.holds_of_wide 3 Try.f3 rfl rfl rfl rfl rfl rfl rfl ⟨rfl, rfl, rfl, rfl, rfl⟩ rfl rfl rfl rfl rfl (by kernel_rfl) Try.func3 (by kernel_rfl)
    (of_decide_eq_true (by kernel_rfl)) (by unfold Func.isWrapper; first | (rw [if_pos (by decide +kernel)]; kernel_rfl) | (rw [if_neg (by decide +kernel)]; exact ⟨rfl, rfl⟩))
    (fun os started H enc _ => lifted os started H enc)

theorem proved : Rows.FnExactPutGoAwaySaid :=
  over
#print axioms proved
end Go.Proofs.Ytghakpcagacdaan.fnExactPutGoAway
