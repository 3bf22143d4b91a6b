/- FirstField answers at every number as the document's specification does, the field and whether there is one; nothing that was there is written. -/
import Derived.Test.YtnenphedodfnnajRows
import Derived.Test.YtnenphedodfnnajTabGet
import Derived.Test.YtnenphedodfnnajTimGet
import Derived.Test.YtnenphedodfnnajTabEqF
import Derived.WalkKit
import Derived.ProofKit
import Derived.OpenShut
import Derived.ShutString
namespace Go.Proofs.Ytnenphedodfnnaj.fnExactFirstField
open Go.ChangeShapes Go.WideShapes Go.ChangeAt Go.RowKit
open Go.ChangeMaps (open_string shut_string)
set_option linter.unusedVariables false      -- a walk need not use every 'w<i>' (that an integer argument fits its kind)

theorem own : ownKnob Try.prog.godebug = none := by kernel_rfl

theorem walk (a0 : Int) (w0 : (Lit.int .i64 a0).wf = true) (w : World) :
    Calls Try.prog 8 #[.int .i64 a0] w fun e w' => e = .returned (.bool true) ∧ Below w.heap.size w w' := by
  clear w0
  generalize hv : firstAns a0 = v
  have HV : Hid (firstAns a0 = v) := hv
  clear hv
  obtain ⟨⟨x, y⟩, b⟩ := v
  go_enter Try.func8, Try.ntmps8
  go_wp2_with fail
  refine (specFF_any a0 _).mono ?_
  rintro e x1 ⟨rfl, hb1⟩
  rw [HV.out]
  have HB1 : Hid (Below w.heap.size w x1) := hb1
  clear hb1
  go_wp2_with fail
  refine (implFF_any a0 _).mono ?_
  rintro e x2 ⟨rfl, hb2⟩
  rw [HV.out]
  rw [show (x1.alloc (Obj.cells #[Value.string x, Value.string y] 35)).heap.size = x1.heap.size + 1 from Array.size_push _] at hb2
  have c0 : x2.cell? ⟨x1.heap.size, 0, none⟩ = some (.string x) := (hb2.cell (p := ⟨x1.heap.size, 0, none⟩) (Nat.lt_succ_self _)).trans (by simp [go_sem])
  have c1 : x2.cell? ⟨x1.heap.size, 1, none⟩ = some (.string y) := (hb2.cell (p := ⟨x1.heap.size, 1, none⟩) (Nat.lt_succ_self _)).trans (by simp [go_sem])
  have hlt : x1.heap.size < x2.heap.size := Nat.lt_of_lt_of_le (Nat.lt_succ_self _) (Nat.le_trans (Nat.le_of_eq (Array.size_push _).symm) hb2.size)
  have HB2 : Hid (Below w.heap.size w x2) := (HB1.out.alloc HB1.out.size _).trans (hb2.mono (Nat.le_succ_of_le HB1.out.size))
  clear hb2
  go_wp2_with fail
  refine (eqField_same x y _).mono ?_
  rintro e x3 ⟨rfl, hb3⟩
  have HB3 : Hid (Below w.heap.size w x3) := (HB2.out.alloc HB2.out.size _).trans (hb3.mono (by rw [show (x2.alloc (Obj.cells #[Value.string x, Value.string y] 35)).heap.size = x2.heap.size + 1 from Array.size_push _]; exact Nat.le_succ_of_le HB2.out.size))
  clear hb3
  go_wp2
  go_ret
  exact ⟨rfl, HB3.out⟩

set_option maxRecDepth 100000 in
theorem lifted (os : Os) (started : os.Started) (H : Type) (enc : TypeId × Value → H) :
    ReturnsInHanded {} Try.checked os 8 .any (Rows.fnExactFirstFieldSpec.pre6 enc Try.prog Try.f8 Rows.fnExactFirstFieldRow.domain false) (Rows.fnExactFirstFieldSpec.post enc Try.prog Try.f8 false true false false) := by
  refine returnsInHanded_of_change (C := Try.checked) own started (by kernel_rfl) Try.func8
    (ChangeSpec.witness6 (enc := enc) (C := Try.checked) false ⟨#[], #[.int .i64 0], []⟩ 8 (by kernel_rfl) (by kernel_rfl) (by kernel_rfl) (by kernel_rfl)) ?_
  intro W base args ds gs before hval0 hW hcnd _
  have hval : ∀ (j : Nat) t v, Try.f8.params[j]? = some t → args[j]? = some v → Value.okWide Try.prog W .any base t v := hval0
  have hW' := hW
  obtain ⟨p, q, hA0, hV, rfl, hfz, hnd⟩ := hW
  have hA : DataW.TrodAll enc Try.prog W 0 (fun _ => true) true Try.f8.params.toList args.toList ds p := hA0
  rw [Try.params8] at hA hval
  obtain ⟨v0, vs0, d0, ds0, p0, q0, hargs, rfl, rfl, h0, r0⟩ := trodAll_cons hA
  obtain ⟨rfl, rfl, rfl⟩ := trodAll_nil r0
  obtain rfl : args = #[v0] := by cases args; simp_all
  obtain ⟨rfl, rfl⟩ := trodVars_none hV
  obtain ⟨a0, rfl, rfl, rfl, w0⟩ := open_int Try.underlying3 (hval 0 3 v0 rfl rfl) h0
  clear hA0 hval0
  simp only [List.append_nil] at hW'
  refine (walk a0 w0 W).mono fun e W' ⟨he, hg⟩ => ?_
  subst he
  exact ⟨_, rfl, _, _, _, [], _, [], hW', trodAll_mk1 (shut_bool Try.underlying4 _), (trodAll_cons_mk (shut_int Try.underlying3 w0) trodAll_mk0), rfl, hg.frame _, fun h => by cases h⟩

theorem over : Rows.fnExactFirstFieldRow.holds Try.pinned (OpenSpec.ofChange Rows.fnExactFirstFieldSpec) :=
  OpenClaim.holds_of_wide 8 Try.f8 rfl rfl rfl rfl rfl rfl rfl ⟨rfl, rfl, rfl, rfl, rfl⟩ rfl rfl rfl rfl rfl (by kernel_rfl) Try.func8 (by kernel_rfl)
    (of_decide_eq_true (by kernel_rfl)) (by unfold Func.isWrapper; first | (rw [if_pos (by decide +kernel)]; kernel_rfl) | (rw [if_neg (by decide +kernel)]; exact ⟨rfl, rfl⟩))
    (fun os started H enc _ => lifted os started H enc)

theorem proved : Rows.FnExactFirstFieldSaid :=
  over
#print axioms proved
end Go.Proofs.Ytnenphedodfnnaj.fnExactFirstField
