/- WindowOf answers as the specification's at every list of bytes; for lists of at most 2^20 bytes, as the statement asks. -/
import Derived.Test.YtghakpcagacdaanRows
import Derived.Test.YtghakpcagacdaanWinS
import Derived.Test.YtghakpcagacdaanWalkB
import Derived.WalkKit
import Derived.ProofKit
import Derived.OpenShut
import Derived.ShutString
import Derived.ChangeOld
import Derived.Below
namespace Go.Proofs.Ytghakpcagacdaan.fnExactWindowOf
open Go.ChangeShapes Go.WideShapes Go.ChangeAt Go.RowKit
open Go.ChangeMaps (open_string shut_string)
set_option linter.unusedVariables false

theorem own : ownKnob Try.prog.godebug = none := by kernel_rfl
theorem laidOut : laidOutB Try.prog = true := by kernel_rfl

theorem walk (a0 : Option Addr) (len0 cap0 : Nat) (z0 : List Int) (w : World) (w0 : IsRow .u8 w a0 len0 cap0 z0) :
    Calls Try.prog 5 #[.slice a0 len0 cap0] w fun e w' => e = .returned (.bool true) ∧ Below w.heap.size w w' := by
  have hs := w0.seg
  generalize z0.take len0 = zs at hs
  clear w0
  by_cases hbig : 1048576 < len0
  · have hbi : (1048576 : Int) < (len0 : Int) := by omega
    go_enter Try.func5, Try.ntmps5
    go_wp2
    go_ret
    exact ⟨rfl, Below.refl _ _⟩
  · have hbi : ¬ (1048576 : Int) < (len0 : Int) := by omega
    have hl : len0 ≤ 1099511627776 := by omega
    have HS : Hid (Seg w a0 len0 zs) := hs
    clear hs
    obtain ⟨⟨g0, g1⟩, hgg⟩ : ∃ p, winR zs = p := ⟨_, rfl⟩
    have HG : Hid (winR zs = (g0, g1)) := hgg
    clear hgg
    have hneg0 : (g0 != g0) = false := by simp
    have hneg1 : (g1 != g1) = false := by simp
    go_enter Try.func5, Try.ntmps5
    go_wp2_with fail
    refine (toByteS_any _ _ _ _ _ HS.out hl).mono ?_
    rintro e x1 ⟨rfl, ho1, hb1⟩
    have S1 : Hid (Seg x1 (some ⟨w.heap.size, 0, none⟩) len0 zs) := Seg.ofOwn ho1 HS.out.2.1
    have HB1 : Hid (Below w.heap.size w x1) := hb1
    clear ho1 hb1
    go_wp2_with fail
    refine (specWin_any _ _ _ _ _ S1.out hl).mono ?_
    rintro e x2 ⟨rfl, rfl⟩
    rw [HG.out]
    dsimp only
    go_wp2_with fail
    refine (toByteS_any _ _ _ _ _ (HS.out.below HB1.out) hl).mono ?_
    rintro e x3 ⟨rfl, ho3, hb3⟩
    have S3 : Hid (Seg x3 (some ⟨x2.heap.size, 0, none⟩) len0 zs) := Seg.ofOwn ho3 HS.out.2.1
    have HB3 : Hid (Below w.heap.size w x3) := HB1.out.trans (hb3.mono HB1.out.size)
    clear ho3 hb3
    go_wp2_with fail
    refine (implWin_any _ _ _ _ _ S3.out (Nat.le_refl _) hl).mono ?_
    rintro e x4 ⟨rfl, rfl⟩
    rw [HG.out]
    dsimp only
    go_wp2_with fail
    refine (toByteS_any _ _ _ _ _ (HS.out.below HB3.out) hl).mono ?_
    rintro e x5 ⟨rfl, ho5, hb5⟩
    have S5 : Hid (Seg x5 (some ⟨x4.heap.size, 0, none⟩) len0 zs) := Seg.ofOwn ho5 HS.out.2.1
    have S35 : Hid (Seg x5 (some ⟨x2.heap.size, 0, none⟩) len0 zs) := S3.out.below hb5
    have HB5 : Hid (Below w.heap.size w x5) := HB3.out.trans (hb5.mono HB3.out.size)
    clear ho5 hb5
    go_wp2_with fail
    refine (eqByteS_same _ _ _ _ _ _ _ S35.out S5.out hl).mono ?_
    rintro e x6 ⟨rfl, n6, rfl⟩
    go_wp2
    go_ret
    exact ⟨rfl, below_drewN HB5.out _⟩

set_option maxRecDepth 100000 in
theorem lifted (os : Os) (started : os.Started) (H : Type) (enc : TypeId × Value → H) :
    ReturnsInHanded {} Try.checked os 5 .any (Rows.fnExactWindowOfSpec.pre6 enc Try.prog Try.f5 Rows.fnExactWindowOfRow.domain false) (Rows.fnExactWindowOfSpec.post enc Try.prog Try.f5 false true false false) := by
  refine returnsInHanded_of_change (C := Try.checked) own started (by kernel_rfl) Try.func5
    (ChangeSpec.witness6 (enc := enc) (C := Try.checked) false ⟨#[], #[.slice none 0 0], []⟩ 8 (by kernel_rfl) (by kernel_rfl) (by kernel_rfl) (by kernel_rfl)) ?_
  intro W base args ds gs before hval0 hW hcnd _
  have hval : ∀ (j : Nat) t v, Try.f5.params[j]? = some t → args[j]? = some v → Value.okWide Try.prog W .any base t v := hval0
  have hW' := hW
  obtain ⟨p, q, hA0, hV, rfl, hfz, hnd⟩ := hW
  have hA : DataW.TrodAll enc Try.prog W 0 (fun _ => true) true Try.f5.params.toList args.toList ds p := hA0
  rw [Try.params5] at hA hval
  obtain ⟨v0, vs0, d0, ds0, p0, q0, hargs, rfl, rfl, h0, r0⟩ := trodAll_cons hA
  obtain ⟨rfl, rfl, rfl⟩ := trodAll_nil r0
  obtain rfl : args = #[v0] := by cases args; simp_all
  obtain ⟨rfl, rfl⟩ := trodVars_none hV
  obtain ⟨a0, len0, cap0, rfl⟩ := okWide_slice Try.underlying22 (hval 0 22 v0 rfl rfl)
  have k0 := h0
  have lt0 : ∀ x ∈ p0, x.block < W.heap.size := by obtain ⟨m, hm⟩ := k0; exact DataW.trod_lt m _ _ _ hm
  obtain ⟨z0, w0⟩ : ∃ zs, IsRow .u8 W a0 len0 cap0 zs := by
    obtain ⟨fuel, hf⟩ := h0
    rcases open_ints Try.underlying22 Try.underlying5 (by kernel_rfl) hf with ⟨hcs, _⟩ | ⟨x, l, c, zs, hcs, _, hl, hm, hz, _, hcell, hwz⟩
    · simp [Value.cells] at hcs
      obtain ⟨rfl, rfl, rfl⟩ := hcs
      exact ⟨[], .inl ⟨rfl, rfl, rfl, rfl⟩⟩
    · simp [Value.cells] at hcs
      obtain ⟨rfl, rfl, rfl⟩ := hcs
      exact ⟨zs, .inr ⟨_, rfl, hl, hm, by simpa using hz, hcell, hwz⟩⟩
  clear hA0 hval0
  refine (walk a0 len0 cap0 z0 W w0).mono fun e W' ⟨he, bel⟩ => ?_
  subst he
  exact ⟨_, rfl, _, _, _, [], _, [], hW', trodAll_mk1 (shut_bool Try.underlying4 _), (trodAll_cons_mk (Below.trod laidOut (by kernel_rfl) (of_decide_eq_true (by kernel_rfl)) k0 bel lt0) trodAll_mk0), rfl, bel.frame _, fun h => by cases h⟩

theorem over : Rows.fnExactWindowOfRow.holds Try.pinned (OpenSpec.ofChange Rows.fnExactWindowOfSpec) :=
  OpenClaim.holds_of_wide 5 Try.f5 rfl rfl rfl rfl rfl rfl rfl ⟨rfl, rfl, rfl, rfl, rfl⟩ rfl rfl rfl rfl rfl (by kernel_rfl) Try.func5 (by kernel_rfl)
    (of_decide_eq_true (by kernel_rfl)) (by unfold Func.isWrapper; first | (rw [if_pos (by decide +kernel)]; kernel_rfl) | (rw [if_neg (by decide +kernel)]; exact ⟨rfl, rfl⟩))
    (fun os started H enc _ => lifted os started H enc)

theorem proved : Rows.FnExactWindowOfSaid := over
#print axioms proved
end Go.Proofs.Ytghakpcagacdaan.fnExactWindowOf
