/- Proved: what the program's CrashServer answers of any server and any list of what is kept is what the specification's answers; nothing that was handed in is changed, and the answer shares no memory with it. -/
import Derived.Test.YtclkfjlnhcccdaaGreatDoorCards
import Derived.Test.YtclkfjlnhcccdaaGreatDoorTie
import Derived.Test.YtclkfjlnhcccdaaGreatDoorP03
import Derived.Test.YtclkfjlnhcccdaaGreatDoorP05
import Derived.Test.YtclkfjlnhcccdaaGreatDoorP06
import Derived.Test.YtclkfjlnhcccdaaGreatDoorM46
import Derived.WalkKit
import Derived.ProofKit
import Derived.OpenShut
import Derived.OpenVars
import Derived.Deep.DeepHandedRow
import Derived.LaidLaws
import Derived.LaidHandle
import Derived.Lib.LaidTab
import Derived.Stop.LaidErr
import Derived.SevenTiedAt
import Derived.ShutString
import Derived.ChangeOld
import Derived.Below
namespace Go.Proofs.YtclkfjlnhcccdaaGreatDoor.fnExactCrashServer
open Go.ChangeShapes Go.WideShapes Go.ChangeAt Go.RowKit
open Go.ChangeMaps (open_string shut_string)
set_option linter.unusedVariables false

theorem own : ownKnob Tryz.prog.godebug = none := by kernel_rfl
theorem laidOut : laidOutB Tryz.prog = true := by kernel_rfl

theorem rect {W : World} (h : laidMetH Tryz.prog Rows.fnExactCrashServerRow.laid W) : RecT W := by
  have h2 := laidMet.filter (fun x => x.1 == "loop.example/g00199/impl.recForms") (laidMetH_iff.1 h).1
  have e : ((Rows.fnExactCrashServerRow.laid.filter fun x => x.2.handleName?.isNone).filter (fun x => x.1 == "loop.example/g00199/impl.recForms")) = [("loop.example/g00199/impl.recForms", rcTabD)] := by kernel_rfl
  rw [e] at h2
  exact recT_of_laid h2

theorem cellsErr : Tryz.prog.cellsOf 192 = 1 := by kernel_rfl
theorem cellsStr : Tryz.prog.cellsOf 9 = 1 := by kernel_rfl
theorem star : "*" ++ "errors.errorString" = "*errors.errorString" := by decide
theorem rowErr (u : TypeId) (h : Tryz.prog.typeName? 3 u = some "*errors.errorString") : u = 174 :=
  typeName_ptr_named (nm := "errors.errorString") (by rw [star]; kernel_rfl) (by kernel_rfl) (by decide) u (by rw [star]; exact h)
theorem gErrType : (Tryz.prog.globals[1]?).map (·.type) = some 162 := by kernel_rfl
theorem errn {W : World} (h : laidMetH Tryz.prog Rows.fnExactCrashServerRow.laid W) : ErrN W := by
  have h2 := laidMet.filter (fun x => x.1 == "loop.example/g00199/impl.errNoFit") (laidMetH_iff.1 h).1
  have e : ((Rows.fnExactCrashServerRow.laid.filter fun x => x.2.handleName?.isNone).filter (fun x => x.1 == "loop.example/g00199/impl.errNoFit")) = [("loop.example/g00199/impl.errNoFit", Rows.laid_loop_example_g00199_impl_errNoFit)] := by kernel_rfl
  rw [e] at h2
  obtain ⟨a0, s0, hv0, -, -, -⟩ := laid_sentinel h2 errG gErrType Tryz.underlying162 rowErr Tryz.underlying174 Tryz.underlying192 rfl rfl Tryz.underlying9 cellsErr cellsStr
  exact errN_of_var ⟨_, _, hv0⟩

set_option maxRecDepth 100000 in
theorem contract (H : Type) (enc : TypeId × Value → H) (W : World) (base : Nat) (args : Array Value) (ds gs : List (DataW H)) (before : List MemPlace)
    (hval : ∀ (j : Nat) t v, Tryz.f4.params[j]? = some t → args[j]? = some v → Value.okWide Tryz.prog W .any base t v)
    (hW : DataW.Whole enc Tryz.prog Tryz.f4.params.toList Rows.fnExactCrashServerSpec.vars false W args.toList ds gs before) (hL : laidMetH Tryz.prog Rows.fnExactCrashServerRow.laid W) :
    Calls Tryz.prog 4 args W fun e W' => ∃ v, e = .returned v ∧ Rows.fnExactCrashServerSpec.post enc Tryz.prog Tryz.f4 false true false false W args v W' := by
  have hW' := hW
  obtain ⟨p, q, hA0, hV, rfl, hfz, hnd⟩ := hW
  have hA : DataW.TrodAll enc Tryz.prog W 0 (fun _ => true) true Tryz.f4.params.toList args.toList ds p := hA0
  rw [Tryz.params4] at hA hval
  obtain ⟨v0, vs0, d0, ds0, p0, q0, hargs0, rfl, rfl, h0, r0⟩ := trodAll_cons hA
  obtain ⟨v1, vs1, d1, ds1, p1, q1, hargs1, rfl, rfl, h1, r1⟩ := trodAll_cons r0
  obtain ⟨rfl, rfl, rfl⟩ := trodAll_nil r1
  obtain rfl : args = #[v0, v1] := by cases args; simp_all
  obtain ⟨g, g', rfl⟩ : ∃ g g', gs = [g, g'] := by
    obtain ⟨_, _, _, _, d0, _, _, _, _, _, d1, _, hgs, _⟩ := trodVars_two hV
    exact ⟨d0, d1, hgs⟩
  have k0 := h0
  have lt0 : ∀ x ∈ p0, x.block < W.heap.size := by obtain ⟨m, hm⟩ := k0; exact DataW.trod_lt m _ _ _ hm
  obtain ⟨a0, n0, ca0, xs, a1, n1, ca1, ys, ep, nx, ua, un, uc, l, ha, hn, hc, hs, rfl, hl0, hl1, hlu, hlh, w0, w1d, wu, wh, wep, wnx⟩ := server_opened (hval 0 30 v0 rfl rfl) h0
  have k1 := h1
  have lt1 : ∀ x ∈ p1, x.block < W.heap.size := by obtain ⟨m, hm⟩ := k1; exact DataW.trod_lt m _ _ _ hm
  obtain ⟨ka, km, kc, rfl⟩ := Go.WideShapes.okWide_slice Tryz.underlying47 (hval 1 47 v1 rfl rfl)
  obtain ⟨fuk, hfk⟩ := h1
  obtain ⟨ka2, km2, kc2, ks, hek, hlk, wk⟩ := Bools.opened (v := .slice ka km kc) hfk
  injection hek with j1 j2 j3
  subst j1 j2 j3
  clear hA0
  refine ((fun a0 n0 c0 xs a1 n1 c1 ys ep nx ua un uc l ha hn hc hs ka km kc ks W hl0 hl1 hlu hlh w0 w1d wu wh wep wnx hlk wk (ht : RecT W) (he : ErrN W) => crashWalk a0 n0 c0 xs a1 n1 c1 ys ep nx ua un uc l ha hn hc hs ka km kc ks W hl0 hl1 hlu hlh w0 w1d wu wh hlk wk (crA xs ys ep nx (l.map UE.u) hs ks).X (crA xs ys ep nx (l.map UE.u) hs ks).Y (crA xs ys ep nx (l.map UE.u) hs ks).ep (crA xs ys ep nx (l.map UE.u) hs ks).nx (crA xs ys ep nx (l.map UE.u) hs ks).us (crA xs ys ep nx (l.map UE.u) hs ks).hs (crA xs ys ep nx (l.map UE.u) hs ks).ok (fun hsz hhn => cr_sz hsz hhn w0.1 w1d.1 wu wh.1) (fun g g' gu gh kb lo l' W' hb hsz hhn hm1 hst hm hz hbo => (specCrash_any (some ⟨g, 0, none⟩) n0 n0 xs (some ⟨g', 0, none⟩) n1 n1 ys ep nx (some ⟨gu, 0, none⟩) un un lo l' (some ⟨gh, 0, none⟩) hn hn hs (some ⟨kb, 0, none⟩) km km ks W' hst.sto.now.strs hst.sto.sure.strs hsz.1 hsz.2.1 hsz.2.2.1 hst.sto.ups hst.sto.len hsz.2.2.2.2.1 (fun e he => Nat.le_trans (hz e he) (by decide)) hst.held.helds hhn hbo hm1).mono (fun e w' h => by rw [hm] at h; exact h)) (fun g g' gu gh kb lo l' W' hb hsz hhn hm1 hst hm hz hbo => (implCrash_any (some ⟨g, 0, none⟩) n0 n0 xs (some ⟨g', 0, none⟩) n1 n1 ys ep nx (some ⟨gu, 0, none⟩) un un lo l' (some ⟨gh, 0, none⟩) hn hn hs (some ⟨kb, 0, none⟩) km km ks W' hst.sto.now.strs hst.sto.sure.strs hsz.1 hsz.2.1 hsz.2.2.1 hst.sto.ups hst.sto.len hsz.2.2.2.2.1 (fun e he => Nat.le_trans (hz e he) (by decide)) hst.held.helds hhn hbo hm1 hst.sto.now.sl (ht.below hb) (he.below hb)).mono (fun e w' h => by rw [hm] at h; exact h))) a0 n0 ca0 xs a1 n1 ca1 ys ep nx ua un uc l ha hn hc hs ka km kc ks W hl0 hl1 hlu hlh w0 w1d wu wh wep wnx hlk wk (rect hL) (errn hL)).mono fun e W' ⟨he, bel⟩ => ?_
  subst he
  exact ⟨_, rfl, _, _, _, [], _, _, hW', trodAll_mk1 (shut_bool Tryz.underlying4 _), (trodAll_cons_mk (Below.trod laidOut (by kernel_rfl) (of_decide_eq_true (by kernel_rfl)) k0 bel lt0) (trodAll_cons_mk (Below.trod laidOut (by kernel_rfl) (of_decide_eq_true (by kernel_rfl)) k1 bel lt1) trodAll_mk0)), bel.trodVars laidOut (by kernel_rfl) hV, bel.frame _, fun h => by cases h⟩

def holds (l : List Value) : Obj → Obj
  | .cells _ t frozen => .cells l.toArray t frozen
  | o => o

noncomputable def low : Nat := (World.holding Tryz.prog default ⟨#[], #[], []⟩).heap.size
noncomputable def laidWorld (os : Os) : World :=
  let w0 := World.holding Tryz.prog os ⟨#[.cells #[.string ⟨#[97, 32, 114, 101, 99, 111, 114, 100, 32, 100, 111, 101, 115, 32, 110, 111, 116, 32, 102, 105, 116, 32, 98, 101, 104, 105, 110, 100, 32, 116, 104, 111, 115, 101, 32, 97, 104, 101, 97, 100, 32, 111, 102, 32, 105, 116]⟩] 192], #[], []⟩
  { w0 with heap := ((w0.heap.modify 0 (holds ((List.range 5).flatMap fun (k : Nat) => [.int .i64 (rMost k), .int .i64 (rLo k), .int .i64 (rHi k)]))).modify 1 (holds [.iface 174 (.pointer (some ⟨low, 0, none⟩))])) }
theorem laid_met (os : Os) : laidMet Tryz.prog Rows.fnExactCrashServerRow.laid ((laidWorld os).forCall (fun _ _ => 0) ⟨#[], #[.agg #[.slice none 0 0, .slice none 0 0, .int .i64 0, .int .i64 0, .slice none 0 0, .slice none 0 0], .slice none 0 0], []⟩).memory :=
  laidMet_of_run' 8 (by kernel_rfl) (by kernel_rfl)
theorem laid_metH (os : Os) : laidMetH Tryz.prog Rows.fnExactCrashServerRow.laid ((laidWorld os).forCall (fun _ _ => 0) ⟨#[], #[.agg #[.slice none 0 0, .slice none 0 0, .int .i64 0, .int .i64 0, .slice none 0 0, .slice none 0 0], .slice none 0 0], []⟩).memory :=
  laidMetH_of_parts (laid_met os) (by kernel_rfl)

set_option maxRecDepth 100000 in
theorem lifted (os : Os) (started : os.Started) (H : Type) (enc : TypeId × Value → H) (F : Stop.Interp) :
    ReturnsInHanded {} Tryz.checked os 4 .any ((OpenSpec.ofChange Rows.fnExactCrashServerSpec).preRow enc Tryz.prog Tryz.f4 Rows.fnExactCrashServerRow.domain false Rows.fnExactCrashServerRow.laid) (((OpenSpec.ofChange Rows.fnExactCrashServerSpec).at F).post enc Tryz.prog Tryz.f4 false true false false) := by
  refine returnsInHanded_of_row (C := Tryz.checked) (s := OpenSpec.ofChange Rows.fnExactCrashServerSpec) own started (by kernel_rfl) Tryz.func4
    (witness_row_at (enc := enc) (C := Tryz.checked) false (laidWorld os) #[.agg #[.slice none 0 0, .slice none 0 0, .int .i64 0, .int .i64 0, .slice none 0 0, .slice none 0 0], .slice none 0 0] rfl (by kernel_rfl) (by kernel_rfl) (by kernel_rfl)
      (OpenSpec.preRow_of_B rfl 8 (by kernel_rfl) (by kernel_rfl) (laid_metH os))) ?_
  intro W base args ds gs before hval hW _ _ _ hL _ _
  exact contract H enc W base args ds gs before hval hW hL

theorem said : Rows.FnExactCrashServerSaid :=
  OpenClaim.holds_of_cond 4 Tryz.f4 rfl rfl rfl rfl rfl rfl rfl ⟨rfl, rfl, rfl, rfl, rfl⟩ rfl rfl rfl rfl rfl (by kernel_rfl) Tryz.func4 (by kernel_rfl)
    (of_decide_eq_true (by kernel_rfl)) (by unfold Func.isWrapper; first | (rw [if_pos (by decide +kernel)]; kernel_rfl) | (rw [if_neg (by decide +kernel)]; exact ⟨rfl, rfl⟩))
    (fun os started H enc _ F => by rw [OpenClaim.pre_eq_preRow]; exact lifted os started H enc F)

theorem plain (f : FuncId) (fn : Func) (hf : Tryz.pinned.checked.prog.funcNamed "loop.example/g00199/laws.FnExactCrashServer" = some f) (hfn : Tryz.pinned.checked.prog.funcs[f]? = some fn) :
    Rows.fnExactCrashServerCard.stood.looks = Tryz.pinned.checked.prog.looks [] ∧ ∀ (j : Nat) t, fn.params[j]? = some t → Tryz.pinned.checked.prog.wantsStandIn t = false := by
  obtain rfl : f = 4 := Option.some.inj ((show Tryz.prog.funcNamed "loop.example/g00199/laws.FnExactCrashServer" = some 4 by kernel_rfl).symm.trans hf) |>.symm
  obtain rfl : fn = Tryz.f4 := (Option.some.inj (Tryz.func4.symm.trans hfn)).symm
  refine ⟨by kernel_rfl, fun j t ht => ?_⟩
  rw [Tryz.params4] at ht
  have hm := Array.mem_of_getElem? ht
  simp at hm
  rcases hm with rfl | rfl
  · exact (show Tryz.prog.wantsStandIn 30 = false by kernel_rfl)
  · exact (show Tryz.prog.wantsStandIn 47 = false by kernel_rfl)

theorem card : Rows.FnExactCrashServerCardSaid :=
  Claim7.holds_tied_plain_at .later [] _ _ _ _ said (fun _ h => by cases h) (by kernel_rfl) (fun _ h => by cases h) fnExactCrashServer_row_tie rfl ⟨rfl, rfl⟩ (by kernel_rfl) rfl plain (by kernel_rfl)
#print axioms card
end Go.Proofs.YtclkfjlnhcccdaaGreatDoor.fnExactCrashServer
