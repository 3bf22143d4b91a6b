/- The law of a new world. -/
import Derived.Test.YtemcjenpgdieoaaGreatDoorCards
import Derived.Test.YtemcjenpgdieoaaGreatDoorTie
import Derived.Test.YtemcjenpgdieoaaGreatDoorM46
import Derived.Test.YtemcjenpgdieoaaGreatDoorM45
import Derived.Test.YtemcjenpgdieoaaGreatDoorM47
import Derived.Test.YtemcjenpgdieoaaGreatDoorM48
import Derived.WalkKit
import Derived.ProofKit
import Derived.OpenShut
import Derived.OpenVars
import Derived.Deep.DeepHandedRow
import Derived.LaidLaws
import Derived.LaidHandle
import Derived.Lib.LaidTab
import Derived.Stop.LaidErr
import Derived.SevenTiedAt
import Derived.ShutString
import Derived.ChangeOld
import Derived.Below
namespace Go.Proofs.YtemcjenpgdieoaaGreatDoor.fnExactWorldNew
open Go.ChangeShapes Go.WideShapes Go.ChangeAt Go.RowKit
open Go.ChangeMaps (open_string shut_string)
set_option linter.unusedVariables false

theorem own : ownKnob Tryz.prog.godebug = none := by kernel_rfl
theorem laidOut : laidOutB Tryz.prog = true := by kernel_rfl

theorem rect {W : World} (h : laidMetH Tryz.prog Rows.fnExactWorldNewRow.laid W) : RecT W := by
  have h2 := laidMet.filter (fun x => x.1 == "loop.example/g00199/impl.recForms") (laidMetH_iff.1 h).1
  have e : ((Rows.fnExactWorldNewRow.laid.filter fun x => x.2.handleName?.isNone).filter (fun x => x.1 == "loop.example/g00199/impl.recForms")) = [("loop.example/g00199/impl.recForms", rcTabD)] := by kernel_rfl
  rw [e] at h2
  exact recT_of_laid h2

theorem cellsErr : Tryz.prog.cellsOf 220 = 1 := by kernel_rfl
theorem cellsStr : Tryz.prog.cellsOf 9 = 1 := by kernel_rfl
theorem star : "*" ++ "errors.errorString" = "*errors.errorString" := by decide
theorem rowErr (u : TypeId) (h : Tryz.prog.typeName? 3 u = some "*errors.errorString") : u = 201 :=
  typeName_ptr_named (nm := "errors.errorString") (by rw [star]; kernel_rfl) (by kernel_rfl) (by decide) u (by rw [star]; exact h)
theorem gErrType : (Tryz.prog.globals[2]?).map (·.type) = some 191 := by kernel_rfl
theorem errn {W : World} (h : laidMetH Tryz.prog Rows.fnExactWorldNewRow.laid W) : ErrN W := by
  have h2 := laidMet.filter (fun x => x.1 == "loop.example/g00199/impl.errNoFit") (laidMetH_iff.1 h).1
  have e : ((Rows.fnExactWorldNewRow.laid.filter fun x => x.2.handleName?.isNone).filter (fun x => x.1 == "loop.example/g00199/impl.errNoFit")) = [("loop.example/g00199/impl.errNoFit", Rows.laid_loop_example_g00199_impl_errNoFit)] := by kernel_rfl
  rw [e] at h2
  obtain ⟨a0, s0, hv0, -, -, -⟩ := laid_sentinel h2 errG gErrType Tryz.underlying191 rowErr Tryz.underlying201 Tryz.underlying220 rfl rfl Tryz.underlying9 cellsErr cellsStr
  exact errN_of_var ⟨_, _, hv0⟩

theorem meth {W : World} (h : laidMetH Tryz.prog Rows.fnExactWorldNewRow.laid W) : MethT W := by
  have h2 := laidMet.filter (fun x => x.1 == "loop.example/g00199/impl.methods") (laidMetH_iff.1 h).1
  have e : ((Rows.fnExactWorldNewRow.laid.filter fun x => x.2.handleName?.isNone).filter (fun x => x.1 == "loop.example/g00199/impl.methods")) = [("loop.example/g00199/impl.methods", methD)] := by kernel_rfl
  rw [e] at h2
  exact methT_of_laid h2

set_option maxRecDepth 100000 in
theorem contract (H : Type) (enc : TypeId × Value → H) (W : World) (base : Nat) (args : Array Value) (ds gs : List (DataW H)) (before : List MemPlace)
    (hval : ∀ (j : Nat) t v, Tryz.f3.params[j]? = some t → args[j]? = some v → Value.okWide Tryz.prog W .any base t v)
    (hW : DataW.Whole enc Tryz.prog Tryz.f3.params.toList Rows.fnExactWorldNewSpec.vars false W args.toList ds gs before) (hL : laidMetH Tryz.prog Rows.fnExactWorldNewRow.laid W) :
    Calls Tryz.prog 3 args W fun e W' => ∃ v, e = .returned v ∧ Rows.fnExactWorldNewSpec.post enc Tryz.prog Tryz.f3 false true false false W args v W' := by
  have hW' := hW
  obtain ⟨p, q, hA0, hV, rfl, hfz, hnd⟩ := hW
  have hA : DataW.TrodAll enc Tryz.prog W 0 (fun _ => true) true Tryz.f3.params.toList args.toList ds p := hA0
  rw [Tryz.params3] at hA hval
  obtain ⟨v0, vs0, d0, ds0, p0, q0, hargs0, rfl, rfl, h0, r0⟩ := trodAll_cons hA
  obtain ⟨v1, vs1, d1, ds1, p1, q1, hargs1, rfl, rfl, h1, r1⟩ := trodAll_cons r0
  obtain ⟨rfl, rfl, rfl⟩ := trodAll_nil r1
  obtain rfl : args = #[v0, v1] := by cases args; simp_all
  obtain ⟨g, g', g'', rfl⟩ : ∃ g g' g'', gs = [g, g', g''] := by
    cases gs with
    | nil => exact (show False from hV).elim
    | cons d ds =>
      obtain ⟨_, _, _, _, _, _, _, _, _, _, hs, _⟩ := hV
      obtain ⟨_, _, _, _, d0, _, _, _, _, _, d1, _, hgs, _⟩ := trodVars_two hs
      exact ⟨d, d0, d1, by rw [hgs]⟩
  obtain ⟨b0, rfl, rfl, rfl, w0i⟩ := open_int Tryz.underlying3 (hval 0 3 v0 rfl rfl) h0
  have k1 := h1
  have lt1 : ∀ x ∈ p1, x.block < W.heap.size := by obtain ⟨m, hm⟩ := k1; exact DataW.trod_lt m _ _ _ hm
  obtain ⟨ca, cn, cc, rfl⟩ := Go.WideShapes.okWide_slice Tryz.underlying22 (hval 1 22 v1 rfl rfl)
  obtain ⟨fuc, hfc⟩ := h1
  obtain ⟨ca2, cn2, cc2, cs, hec, hlc, wI⟩ := ClsI.opened (v := .slice ca cn cc) hfc
  injection hec with j1 j2 j3
  subst j1 j2 j3
  clear hA0
  refine ((fun b0 ca cn cc cs W hb0 hlc wI ht he hmt => wdNewWalk b0 ca cn cc cs W hlc wI ht he) b0 ca cn cc cs W (bounds_i64 w0i) hlc wI (rect hL) (errn hL) (meth hL)).mono fun e W' ⟨he, bel⟩ => ?_
  subst he
  exact ⟨_, rfl, _, _, _, [], _, _, hW', trodAll_mk1 (shut_bool Tryz.underlying4 _), (trodAll_cons_mk (shut_int Tryz.underlying3 w0i) (trodAll_cons_mk (Below.trod laidOut (by kernel_rfl) (of_decide_eq_true (by kernel_rfl)) k1 bel lt1) trodAll_mk0)), bel.trodVars laidOut (by kernel_rfl) hV, bel.frame _, fun h => by cases h⟩

def tab32 : List Int := [0, 1, 28, 2, 29, 14, 24, 3, 30, 22, 20, 15, 25, 17, 4, 8, 31, 27, 13, 23, 21, 19, 16, 7, 26, 12, 18, 6, 11, 5, 10, 9]
def tab64 : List Int := [0, 1, 56, 2, 57, 49, 28, 3, 61, 58, 42, 50, 38, 29, 17, 4, 62, 47, 59, 36, 45, 43, 51, 22, 53, 39, 33, 30, 24, 18, 12, 5, 63, 55, 48, 27, 60, 41, 37, 16, 46, 35, 44, 21, 52, 32, 23, 11, 54, 26, 40, 15, 34, 20, 31, 10, 25, 14, 19, 9, 13, 8, 7, 6]

def holds (l : List Value) : Obj → Obj
  | .cells _ t frozen => .cells l.toArray t frozen
  | o => o

noncomputable def low : Nat := (World.holding Tryz.prog default ⟨#[], #[], []⟩).heap.size
noncomputable def laidWorld (os : Os) : World :=
  let w0 := World.holding Tryz.prog os ⟨#[.cells #[.string ⟨#[97, 32, 114, 101, 99, 111, 114, 100, 32, 100, 111, 101, 115, 32, 110, 111, 116, 32, 102, 105, 116, 32, 98, 101, 104, 105, 110, 100, 32, 116, 104, 111, 115, 101, 32, 97, 104, 101, 97, 100, 32, 111, 102, 32, 105, 116]⟩] 220], #[], []⟩
  { w0 with heap := (((w0.heap.modify 1 (holds ((List.range 5).flatMap fun (k : Nat) => [.int .i64 (rMost k), .int .i64 (rLo k), .int .i64 (rHi k)]))).modify 0 (holds ((List.range 7).flatMap fun (k : Nat) => [.string (methT (k : Int)), .string (nameT (k : Int)), .int .i64 (mostT k)]))).modify 2 (holds [.iface 201 (.pointer (some ⟨low, 0, none⟩))])) }
theorem laid_met (os : Os) : laidMet Tryz.prog Rows.fnExactWorldNewRow.laid ((laidWorld os).forCall (fun _ _ => 0) ⟨#[], #[.int .i64 0, .slice none 0 0], []⟩).memory :=
  laidMet_of_run' 8 (by kernel_rfl) (by kernel_rfl)
theorem laid_metH (os : Os) : laidMetH Tryz.prog Rows.fnExactWorldNewRow.laid ((laidWorld os).forCall (fun _ _ => 0) ⟨#[], #[.int .i64 0, .slice none 0 0], []⟩).memory :=
  laidMetH_of_parts (laid_met os) (by kernel_rfl)

set_option maxRecDepth 100000 in
theorem lifted (os : Os) (started : os.Started) (H : Type) (enc : TypeId × Value → H) (F : Stop.Interp) :
    ReturnsInHanded {} Tryz.checked os 3 .any ((OpenSpec.ofChange Rows.fnExactWorldNewSpec).preRow enc Tryz.prog Tryz.f3 Rows.fnExactWorldNewRow.domain false Rows.fnExactWorldNewRow.laid) (((OpenSpec.ofChange Rows.fnExactWorldNewSpec).at F).post enc Tryz.prog Tryz.f3 false true false false) := by
  refine returnsInHanded_of_row (C := Tryz.checked) (s := OpenSpec.ofChange Rows.fnExactWorldNewSpec) own started (by kernel_rfl) Tryz.func3
    (witness_row_at (enc := enc) (C := Tryz.checked) false (laidWorld os) #[.int .i64 0, .slice none 0 0] rfl (by kernel_rfl) (by kernel_rfl) (by kernel_rfl)
      (OpenSpec.preRow_of_B rfl 8 (by kernel_rfl) (by kernel_rfl) (laid_metH os))) ?_
  intro W base args ds gs before hval hW _ _ _ hL _ _
  exact contract H enc W base args ds gs before hval hW hL

theorem said : Rows.FnExactWorldNewSaid :=
  OpenClaim.holds_of_cond 3 Tryz.f3 rfl rfl rfl rfl rfl rfl rfl ⟨rfl, rfl, rfl, rfl, rfl⟩ rfl rfl rfl rfl rfl (by kernel_rfl) Tryz.func3 (by kernel_rfl)
    (of_decide_eq_true (by kernel_rfl)) (by unfold Func.isWrapper; first | (rw [if_pos (by decide +kernel)]; kernel_rfl) | (rw [if_neg (by decide +kernel)]; exact ⟨rfl, rfl⟩))
    (fun os started H enc _ F => by rw [OpenClaim.pre_eq_preRow]; exact lifted os started H enc F)

theorem plain (f : FuncId) (fn : Func) (hf : Tryz.pinned.checked.prog.funcNamed "loop.example/g00199/laws.FnExactWorldNew" = some f) (hfn : Tryz.pinned.checked.prog.funcs[f]? = some fn) :
    Rows.fnExactWorldNewCard.stood.looks = Tryz.pinned.checked.prog.looks [] ∧ ∀ (j : Nat) t, fn.params[j]? = some t → Tryz.pinned.checked.prog.wantsStandIn t = false := by
  obtain rfl : f = 3 := Option.some.inj ((show Tryz.prog.funcNamed "loop.example/g00199/laws.FnExactWorldNew" = some 3 by kernel_rfl).symm.trans hf) |>.symm
  obtain rfl : fn = Tryz.f3 := (Option.some.inj (Tryz.func3.symm.trans hfn)).symm
  refine ⟨by kernel_rfl, fun j t ht => ?_⟩
  rw [Tryz.params3] at ht
  have hm := Array.mem_of_getElem? ht
  simp at hm
  rcases hm with rfl | rfl
  · exact (show Tryz.prog.wantsStandIn 3 = false by kernel_rfl)
  · exact (show Tryz.prog.wantsStandIn 22 = false by kernel_rfl)

theorem card : Rows.FnExactWorldNewCardSaid :=
  Claim7.holds_tied_plain_at .later [] _ _ _ _ said (fun _ h => by cases h) (by kernel_rfl) (fun _ h => by cases h) fnExactWorldNew_row_tie rfl ⟨rfl, rfl⟩ (by kernel_rfl) rfl plain (by kernel_rfl)
#print axioms card
end Go.Proofs.YtemcjenpgdieoaaGreatDoor.fnExactWorldNew
