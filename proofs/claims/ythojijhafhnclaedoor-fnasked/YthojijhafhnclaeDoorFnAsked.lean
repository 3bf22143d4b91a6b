/- For every code of at most 2^20 bytes (a longer one the law passes by): what is read of drawn fields as a request is right and comes back of its fields, and beside a fault nothing is read; under the program's table, the library's and its two errors as their texts lay them, which the card ties. -/
import Derived.Test.YthojijhafhnclaeDoorCards
import Derived.Test.YthojijhafhnclaeDoorTie
import Derived.Test.YthojijhafhnclaeDoorLawAsked
import Derived.Test.YthojijhafhnclaeDoorReqLaid
import Derived.WalkKit
import Derived.ProofKit
import Derived.OpenShut
import Derived.OpenVars
import Derived.Deep.DeepHandedRow
import Derived.LaidLaws
import Derived.LaidHandle
import Derived.Lib.LaidTab
import Derived.Stop.LaidErr
import Derived.SevenTiedAt
import Derived.ShutString
import Derived.ChangeOld
import Derived.Below
namespace Go.Proofs.YthojijhafhnclaeDoor.fnAsked
open Go.ChangeShapes Go.WideShapes Go.ChangeAt Go.RowKit
open Go.ChangeMaps (open_string shut_string)
set_option linter.unusedVariables false

theorem own : ownKnob Tryd.prog.godebug = none := by kernel_rfl
theorem laidOut : laidOutB Tryd.prog = true := by kernel_rfl

theorem meth {W : World} (h : laidMetH Tryd.prog Rows.fnAskedRow.laid W) : MethT W := by
  have h2 := laidMet.filter (fun x => x.1 == "loop.example/g00199/impl.methods") (laidMetH_iff.1 h).1
  have e : ((Rows.fnAskedRow.laid.filter fun x => x.2.handleName?.isNone).filter (fun x => x.1 == "loop.example/g00199/impl.methods")) = [("loop.example/g00199/impl.methods", methD)] := by kernel_rfl
  rw [e] at h2
  exact methT_of_laid h2

theorem gTab : Tryd.prog.globalNamed "internal/strconv.uint64pow10" = some 1 := by kernel_rfl
theorem gTabType : (Tryd.prog.globals[1]?).map (·.type) = some 93 := by kernel_rfl
theorem cellsTab : Tryd.prog.cellsOf 93 = 20 := by kernel_rfl
theorem cellsOne : Tryd.prog.cellsOf 85 = 1 := by kernel_rfl

theorem tab {W : World} (h : laidMetH Tryd.prog Rows.fnAskedRow.laid W) : TabT W := by
  have h2 := laidMet.filter (fun x => x.1 == "internal/strconv.uint64pow10") (laidMetH_iff.1 h).1
  have e : ((Rows.fnAskedRow.laid.filter fun x => x.2.handleName?.isNone).filter (fun x => x.1 == "internal/strconv.uint64pow10")) = [("internal/strconv.uint64pow10", Lib.tabData .u64 Lib.pow10Tab)] := by kernel_rfl
  rw [e] at h2
  exact Lib.tabIs_of_head (rest := []) gTab gTabType Tryd.underlying93 Tryd.underlying85 cellsOne cellsTab h2

theorem cellsErr : Tryd.prog.cellsOf 117 = 1 := by kernel_rfl
theorem cellsStr : Tryd.prog.cellsOf 9 = 1 := by kernel_rfl
theorem star : "*" ++ "errors.errorString" = "*errors.errorString" := by decide
theorem rowErr (u : TypeId) (h : Tryd.prog.typeName? 3 u = some "*errors.errorString") : u = 115 :=
  typeName_ptr_named (nm := "errors.errorString") (by rw [star]; kernel_rfl) (by kernel_rfl) (by decide) u (by rw [star]; exact h)

theorem gsyn : Tryd.prog.globalNamed "strconv.ErrSyntax" = some 2 := by kernel_rfl
theorem gsynType : (Tryd.prog.globals[2]?).map (·.type) = some 80 := by kernel_rfl
theorem synHeld {W : World} (h : laidMetH Tryd.prog Rows.fnAskedRow.laid W) : ∃ t p, W.var? Tryd.prog "strconv.ErrSyntax" = some #[.iface t p] := by
  have h2 := laidMet.filter (fun x => x.1 == "strconv.ErrSyntax") (laidMetH_iff.1 h).1
  have e : ((Rows.fnAskedRow.laid.filter fun x => x.2.handleName?.isNone).filter (fun x => x.1 == "strconv.ErrSyntax")) = [("strconv.ErrSyntax", Rows.laid_strconv_ErrSyntax)] := by kernel_rfl
  rw [e] at h2
  obtain ⟨a0, s0, hv0, -, -, -⟩ := laid_sentinel h2 gsyn gsynType Tryd.underlying80 rowErr Tryd.underlying115 Tryd.underlying117 rfl rfl Tryd.underlying9 cellsErr cellsStr
  exact ⟨_, _, hv0⟩

theorem grng : Tryd.prog.globalNamed "strconv.ErrRange" = some 3 := by kernel_rfl
theorem grngType : (Tryd.prog.globals[3]?).map (·.type) = some 80 := by kernel_rfl
theorem rngHeld {W : World} (h : laidMetH Tryd.prog Rows.fnAskedRow.laid W) : ∃ t p, W.var? Tryd.prog "strconv.ErrRange" = some #[.iface t p] := by
  have h2 := laidMet.filter (fun x => x.1 == "strconv.ErrRange") (laidMetH_iff.1 h).1
  have e : ((Rows.fnAskedRow.laid.filter fun x => x.2.handleName?.isNone).filter (fun x => x.1 == "strconv.ErrRange")) = [("strconv.ErrRange", Rows.laid_strconv_ErrRange)] := by kernel_rfl
  rw [e] at h2
  obtain ⟨a0, s0, hv0, -, -, -⟩ := laid_sentinel h2 grng grngType Tryd.underlying80 rowErr Tryd.underlying115 Tryd.underlying117 rfl rfl Tryd.underlying9 cellsErr cellsStr
  exact ⟨_, _, hv0⟩

theorem std {W : World} (h : laidMetH Tryd.prog Rows.fnAskedRow.laid W) : StdT W := ⟨tab h, synHeld h, rngHeld h⟩

set_option maxRecDepth 100000 in
theorem contract (H : Type) (enc : TypeId × Value → H) (W : World) (base : Nat) (args : Array Value) (ds gs : List (DataW H)) (before : List MemPlace)
    (hval : ∀ (j : Nat) t v, Tryd.f4.params[j]? = some t → args[j]? = some v → Value.okWide Tryd.prog W .any base t v)
    (hW : DataW.Whole enc Tryd.prog Tryd.f4.params.toList Rows.fnAskedSpec.vars false W args.toList ds gs before) (hL : laidMetH Tryd.prog Rows.fnAskedRow.laid W) :
    Calls Tryd.prog 4 args W fun e W' => ∃ v, e = .returned v ∧ Rows.fnAskedSpec.post enc Tryd.prog Tryd.f4 false true false false W args v W' := by
  have hW' := hW
  obtain ⟨p, q, hA0, hV, rfl, hfz, hnd⟩ := hW
  have hA : DataW.TrodAll enc Tryd.prog W 0 (fun _ => true) true Tryd.f4.params.toList args.toList ds p := hA0
  rw [Tryd.params4] at hA hval
  obtain ⟨v0, vs0, d0, ds0, p0, q0, hargs0, rfl, rfl, h0, r0⟩ := trodAll_cons hA
  obtain ⟨rfl, rfl, rfl⟩ := trodAll_nil r0
  obtain rfl : args = #[v0] := by cases args; simp_all
  obtain ⟨g, rfl⟩ : ∃ g, gs = [g] := by
    obtain ⟨_, _, _, _, d, _, hgs, _⟩ := trodVars_one hV
    exact ⟨d, hgs⟩
  have k0 := h0
  have lt0 : ∀ x ∈ p0, x.block < W.heap.size := by obtain ⟨m, hm⟩ := k0; exact DataW.trod_lt m _ _ _ hm
  obtain ⟨a0, len0, cap0, rfl⟩ := okWide_slice Tryd.underlying22 (hval 0 22 v0 rfl rfl)
  obtain ⟨z0, w0⟩ : ∃ zs, IsRow .u8 W a0 len0 cap0 zs := by
    obtain ⟨fuel, hf⟩ := h0
    rcases open_ints Tryd.underlying22 Tryd.underlying5 (by kernel_rfl) hf with ⟨hcs, _⟩ | ⟨x, l, c, zs, hcs, _, hl, hm, hz, _, hcell, hwz⟩
    · simp [Value.cells] at hcs
      obtain ⟨rfl, rfl, rfl⟩ := hcs
      exact ⟨[], .inl ⟨rfl, rfl, rfl, rfl⟩⟩
    · simp [Value.cells] at hcs
      obtain ⟨rfl, rfl, rfl⟩ := hcs
      exact ⟨zs, .inr ⟨_, rfl, hl, hm, by simpa using hz, hcell, hwz⟩⟩
  have hm : len0 ≤ maxLen := by
    rcases w0 with ⟨_, rfl, _⟩ | ⟨x, _, h1, h2, _⟩
    · exact Nat.zero_le _
    · exact Nat.le_trans h1 h2
  clear hA0
  refine (lawAsked_any a0 len0 cap0 _ W hm w0.seg (meth hL) (std hL)).mono fun e W' ⟨he, bel⟩ => ?_
  subst he
  exact ⟨_, rfl, _, _, _, [], _, _, hW', trodAll_mk1 (shut_bool Tryd.underlying4 _), (trodAll_cons_mk (Below.trod laidOut (by kernel_rfl) (of_decide_eq_true (by kernel_rfl)) k0 bel lt0) trodAll_mk0), bel.trodVars laidOut (by kernel_rfl) hV, bel.frame _, fun h => by cases h⟩

def tab32 : List Int := [0, 1, 28, 2, 29, 14, 24, 3, 30, 22, 20, 15, 25, 17, 4, 8, 31, 27, 13, 23, 21, 19, 16, 7, 26, 12, 18, 6, 11, 5, 10, 9]
def tab64 : List Int := [0, 1, 56, 2, 57, 49, 28, 3, 61, 58, 42, 50, 38, 29, 17, 4, 62, 47, 59, 36, 45, 43, 51, 22, 53, 39, 33, 30, 24, 18, 12, 5, 63, 55, 48, 27, 60, 41, 37, 16, 46, 35, 44, 21, 52, 32, 23, 11, 54, 26, 40, 15, 34, 20, 31, 10, 25, 14, 19, 9, 13, 8, 7, 6]

def holds (l : List Value) : Obj → Obj
  | .cells _ t frozen => .cells l.toArray t frozen
  | o => o

noncomputable def low : Nat := (World.holding Tryd.prog default ⟨#[], #[], []⟩).heap.size
noncomputable def laidWorld (os : Os) : World :=
  let w0 := World.holding Tryd.prog os ⟨#[.cells #[.string ⟨#[105, 110, 118, 97, 108, 105, 100, 32, 115, 121, 110, 116, 97, 120]⟩] 117, .cells #[.string ⟨#[118, 97, 108, 117, 101, 32, 111, 117, 116, 32, 111, 102, 32, 114, 97, 110, 103, 101]⟩] 117], #[], []⟩
  { w0 with heap := ((((((w0.heap.modify 1 (holds (Lib.pow10Tab.map (Value.int .u64)))).modify 4 (holds (tab32.map (Value.int .u8)))).modify 5 (holds (tab64.map (Value.int .u8)))).modify 0 (holds ((List.range 7).flatMap fun (k : Nat) => [.string (methT (k : Int)), .string (nameT (k : Int)), .int .i64 (mostT k)]))).modify 2 (holds [.iface 115 (.pointer (some ⟨low, 0, none⟩))])).modify 3 (holds [.iface 115 (.pointer (some ⟨low + 1, 0, none⟩))])) }
theorem laid_met (os : Os) : laidMet Tryd.prog Rows.fnAskedRow.laid ((laidWorld os).forCall (fun _ _ => 0) ⟨#[], #[.slice none 0 0], []⟩).memory :=
  laidMet_of_run' 8 (by kernel_rfl) (by kernel_rfl)
theorem laid_metH (os : Os) : laidMetH Tryd.prog Rows.fnAskedRow.laid ((laidWorld os).forCall (fun _ _ => 0) ⟨#[], #[.slice none 0 0], []⟩).memory :=
  laidMetH_of_parts (laid_met os) (by kernel_rfl)

set_option maxRecDepth 100000 in
theorem lifted (os : Os) (started : os.Started) (H : Type) (enc : TypeId × Value → H) (F : Stop.Interp) :
    ReturnsInHanded {} Tryd.checked os 4 .any ((OpenSpec.ofChange Rows.fnAskedSpec).preRow enc Tryd.prog Tryd.f4 Rows.fnAskedRow.domain false Rows.fnAskedRow.laid) (((OpenSpec.ofChange Rows.fnAskedSpec).at F).post enc Tryd.prog Tryd.f4 false true false false) := by
  refine returnsInHanded_of_row (C := Tryd.checked) (s := OpenSpec.ofChange Rows.fnAskedSpec) own started (by kernel_rfl) Tryd.func4
    (witness_row_at (enc := enc) (C := Tryd.checked) false (laidWorld os) #[.slice none 0 0] rfl (by kernel_rfl) (by kernel_rfl) (by kernel_rfl)
      (OpenSpec.preRow_of_B rfl 8 (by kernel_rfl) (by kernel_rfl) (laid_metH os))) ?_
  intro W base args ds gs before hval hW _ _ _ hL _ _
  exact contract H enc W base args ds gs before hval hW hL

theorem said : Rows.FnAskedSaid :=
  OpenClaim.holds_of_cond 4 Tryd.f4 rfl rfl rfl rfl rfl rfl rfl ⟨rfl, rfl, rfl, rfl, rfl⟩ rfl rfl rfl rfl rfl (by kernel_rfl) Tryd.func4 (by kernel_rfl)
    (of_decide_eq_true (by kernel_rfl)) (by unfold Func.isWrapper; first | (rw [if_pos (by decide +kernel)]; kernel_rfl) | (rw [if_neg (by decide +kernel)]; exact ⟨rfl, rfl⟩))
    (fun os started H enc _ F => by rw [OpenClaim.pre_eq_preRow]; exact lifted os started H enc F)

theorem plain (f : FuncId) (fn : Func) (hf : Tryd.pinned.checked.prog.funcNamed "loop.example/g00199/laws.FnAsked" = some f) (hfn : Tryd.pinned.checked.prog.funcs[f]? = some fn) :
    Rows.fnAskedCard.stood.looks = Tryd.pinned.checked.prog.looks [] ∧ ∀ (j : Nat) t, fn.params[j]? = some t → Tryd.pinned.checked.prog.wantsStandIn t = false := by
  obtain rfl : f = 4 := Option.some.inj ((show Tryd.prog.funcNamed "loop.example/g00199/laws.FnAsked" = some 4 by kernel_rfl).symm.trans hf) |>.symm
  obtain rfl : fn = Tryd.f4 := (Option.some.inj (Tryd.func4.symm.trans hfn)).symm
  refine ⟨by kernel_rfl, fun j t ht => ?_⟩
  rw [Tryd.params4] at ht
  obtain rfl : t = 22 := by simpa using Array.mem_of_getElem? ht
  exact (show Tryd.prog.wantsStandIn 22 = false by kernel_rfl)

theorem card : Rows.FnAskedCardSaid :=
  Claim7.holds_tied_plain_at .later [] _ _ _ _ said (fun _ h => by cases h) (by kernel_rfl) (fun _ h => by cases h) fnAsked_row_tie rfl ⟨rfl, rfl⟩ (by kernel_rfl) rfl plain (by kernel_rfl)
#print axioms card
end Go.Proofs.YthojijhafhnclaeDoor.fnAsked
