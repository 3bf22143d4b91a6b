/- GetSettings answers as the specification's at every list of bytes; for lists of at most 2^20 bytes, as the statement asks. -/
import Derived.Test.YtghakpcagacdaamRows
import Derived.Test.YtghakpcagacdaamSetGetS
import Derived.Test.YtghakpcagacdaamSetTo
import Derived.Test.YtghakpcagacdaamSetMark
import Derived.Test.YtghakpcagacdaamMarkB
import Derived.WalkKit
import Derived.ProofKit
import Derived.OpenShut
import Derived.ShutString
import Derived.ChangeOld
import Derived.Below
namespace Go.Proofs.Ytghakpcagacdaam.fnExactGetSettings
open Go.ChangeShapes Go.WideShapes Go.ChangeAt Go.RowKit
open Go.ChangeMaps (open_string shut_string)
set_option linter.unusedVariables false

theorem own : ownKnob Try.prog.godebug = none := by kernel_rfl
theorem laidOut : laidOutB Try.prog = true := by kernel_rfl

theorem walk (a0 : Option Addr) (len0 cap0 : Nat) (z0 : List Int) (w : World) (w0 : IsRow .u8 w a0 len0 cap0 z0) :
    Calls Try.prog 8 #[.slice a0 len0 cap0] w fun e w' => e = .returned (.bool true) ∧ Below w.heap.size w w' := by
  have hs := w0.seg
  generalize z0.take len0 = zs at hs
  clear w0
  by_cases hbig : 1048576 < len0
  · have hbi : (1048576 : Int) < (len0 : Int) := by omega
    go_enter Try.func8, Try.ntmps8
    go_wp2
    go_ret
    exact ⟨rfl, Below.refl _ _⟩
  have hbi : ¬ (1048576 : Int) < (len0 : Int) := by omega
  have hl : len0 ≤ 1099511627776 := by omega
  have HS : Hid (Seg w a0 len0 zs) := hs
  have hgl : (getS zs).1.length ≤ 1048576 := by
    have h1 := hs.1
    unfold getS
    split
    · dsimp only; rw [getSl_len]; omega
    · simp
  clear hs hbig
  obtain ⟨⟨g, g1⟩, hgg⟩ : ∃ p, getS zs = p := ⟨_, rfl⟩
  have hne : (g1 != g1) = false := by simp
  have HSp : Hid (∀ (a : Option Addr) (W : World), Seg W a len0 zs → Calls Try.prog 35 #[.slice a len0 len0] W fun e w' => ∃ a' cap', e = .returned (.tuple #[.slice a' g.length cap', .bool g1]) ∧ OwnS w' W.heap.size a' g.length cap' g ∧ Below W.heap.size W w') := fun a W h => by
    have := specGetSt_any a len0 len0 zs W h hl
    rw [hgg] at this
    exact this
  have HIm : Hid (∀ (a : Option Addr) (W : World), Seg W a len0 zs → Calls Try.prog 36 #[.slice a len0 len0] W fun e w' => ∃ a' cap', e = .returned (.tuple #[.slice a' g.length cap', .bool g1]) ∧ OwnS w' W.heap.size a' g.length cap' g ∧ Below W.heap.size W w') := fun a W h => by
    have := implGetSt_any a len0 len0 zs W h (Nat.le_refl _) hl
    rw [hgg] at this
    exact this
  rw [hgg] at hgl
  dsimp only at hgl
  clear hgg
  obtain ⟨gl, hgl2⟩ : ∃ gl, g.length = gl := ⟨_, rfl⟩
  rw [hgl2] at HSp HIm hgl
  clear hgl2
  go_enter Try.func8, Try.ntmps8
  go_wp2_with fail
  refine (toByteS_any _ _ _ _ _ HS.out hl).mono ?_
  rintro e x1 ⟨rfl, ho1, hb1⟩
  have S1 : Hid (Seg x1 (some ⟨w.heap.size, 0, none⟩) len0 zs) := Seg.ofOwn ho1 HS.out.2.1
  have HB1 : Hid (Below w.heap.size w x1) := hb1
  clear ho1 hb1
  go_wp2_with fail
  refine (HSp.out _ x1 S1.out).mono ?_
  rintro e x2 ⟨wa, wc, rfl, ow2, hb2⟩
  have OW2 : Hid (OwnS x2 x1.heap.size wa gl wc g) := ow2
  have HB2 : Hid (Below w.heap.size w x2) := HB1.out.trans (hb2.mono HB1.out.size)
  clear ow2 hb2
  go_wp2_with fail
  refine (toByteS_any _ _ _ _ _ (HS.out.below HB2.out) hl).mono ?_
  rintro e x3 ⟨rfl, ho3, hb3⟩
  have OX3 : Hid (Owns x3 x2.heap.size (some ⟨x2.heap.size, 0, none⟩) len0 len0 zs) := ⟨ho3, HS.out.2.1⟩
  have OW3 : Hid (OwnS x3 x1.heap.size wa gl wc g) := OW2.out.below hb3
  have HB3 : Hid (Below w.heap.size w x3) := HB2.out.trans (hb3.mono HB2.out.size)
  have hwlt : Hid (∀ k, wa.map (·.block) = some k → k < x2.heap.size) := fun k hk => (OW2.out.lt k hk).2
  have hx23 : Hid (x2.heap.size < x3.heap.size) := (ho3.lt _ rfl).2
  clear ho3 hb3 OW2
  go_wp2_with fail
  refine (HIm.out _ x3 OX3.out.seg).mono ?_
  rintro e x4 ⟨ga, gc, rfl, og4, hb4⟩
  have OG4 : Hid (OwnS x4 x3.heap.size ga gl gc g) := og4
  have OX4 : Hid (Owns x4 x2.heap.size (some ⟨x2.heap.size, 0, none⟩) len0 len0 zs) := OX3.out.below hb4
  have OW4 : Hid (OwnS x4 x1.heap.size wa gl wc g) := OW3.out.below hb4
  have HB4 : Hid (Below w.heap.size w x4) := HB3.out.trans (hb4.mono HB3.out.size)
  clear og4 hb4 OX3 OW3
  go_wp2_with fail
  refine (eqSettS_same _ _ _ _ _ _ _ OG4.out.setts OW4.out.setts (by omega)).mono ?_
  rintro e x5 ⟨rfl, hb5⟩
  have OG5 : Hid (OwnS x5 x3.heap.size ga gl gc g) := OG4.out.below hb5
  have OX5 : Hid (Owns x5 x2.heap.size (some ⟨x2.heap.size, 0, none⟩) len0 len0 zs) := OX4.out.below hb5
  have OW5 : Hid (OwnS x5 x1.heap.size wa gl wc g) := OW4.out.below hb5
  have HB5 : Hid (Below w.heap.size w x5) := HB4.out.trans (hb5.mono HB4.out.size)
  clear hb5 OG4 OX4 OW4
  go_wp2_with fail
  refine (toByteS_any _ _ _ _ _ (HS.out.below HB5.out) hl).mono ?_
  rintro e x6 ⟨rfl, ho6, hb6⟩
  have S6 : Hid (Seg x6 (some ⟨x5.heap.size, 0, none⟩) len0 zs) := Seg.ofOwn ho6 HS.out.2.1
  have OG6 : Hid (OwnS x6 x3.heap.size ga gl gc g) := OG5.out.below hb6
  have OX6 : Hid (Owns x6 x2.heap.size (some ⟨x2.heap.size, 0, none⟩) len0 len0 zs) := OX5.out.below hb6
  have OW6 : Hid (OwnS x6 x1.heap.size wa gl wc g) := OW5.out.below hb6
  have HB6 : Hid (Below w.heap.size w x6) := HB5.out.trans (hb6.mono HB5.out.size)
  clear ho6 hb6 OG5 OX5 OW5
  go_wp2_with fail
  refine (eqByteS_same _ _ _ _ _ _ _ OX6.out.seg S6.out hl).mono ?_
  rintro e x7 ⟨rfl, st7⟩
  have hb7 : Below x6.heap.size x6 x7 := Still.below st7 (Below.refl _ _)
  have OG7 : Hid (OwnS x7 x3.heap.size ga gl gc g) := OG6.out.below hb7
  have OX7 : Hid (Owns x7 x2.heap.size (some ⟨x2.heap.size, 0, none⟩) len0 len0 zs) := OX6.out.below hb7
  have OW7 : Hid (OwnS x7 x1.heap.size wa gl wc g) := OW6.out.below hb7
  have HB7 : Hid (Below w.heap.size w x7) := HB6.out.trans (hb7.mono HB6.out.size)
  clear st7 hb7 OG6 OX6 OW6 S6
  go_wp2_with fail
  refine (mark_one _ _ _ _ _ _ OX7.out (by omega)).mono ?_
  rintro e x8 ⟨rfl, _, on8⟩
  have OG8 : Hid (OwnS x8 x3.heap.size ga gl gc g) := OG7.out.kept on8 (fun k hk h => by simp at hk; have := OG7.out.lt k h; have := hx23.out; omega)
  have OW8 : Hid (OwnS x8 x1.heap.size wa gl wc g) := OW7.out.kept on8 (fun k hk h => by simp at hk; have := hwlt.out k h; omega)
  have HB8 : Hid (Below w.heap.size w x8) := on8.below HB7.out HB7.out.size (fun k hk => by simp at hk; have := HB2.out.size; omega)
  clear on8 OG7 OX7 OW7
  generalize hq8 : ((1 + len0 : Nat) : Int) = q8
  have hq8p : 0 ≤ q8 := by omega
  clear hq8
  go_wp2_with fail
  refine (eqSettS_same _ _ _ _ _ _ _ OG8.out.setts OW8.out.setts (by omega)).mono ?_
  rintro e x9 ⟨rfl, hb9⟩
  have OG9 : Hid (OwnS x9 x3.heap.size ga gl gc g) := OG8.out.below hb9
  have OW9 : Hid (OwnS x9 x1.heap.size wa gl wc g) := OW8.out.below hb9
  have HB9 : Hid (Below w.heap.size w x9) := HB8.out.trans (hb9.mono HB8.out.size)
  clear hb9 OG8 OW8
  go_wp2_with fail
  refine (markSS_any _ _ _ _ 1 _ _ OG9.out (by omega) (by omega)).mono ?_
  rintro e x10 ⟨rfl, og10, on10⟩
  have OG10 : Hid (OwnS x10 x3.heap.size ga gl gc (marksS 1 gl)) := og10
  have OW10 : Hid (OwnS x10 x1.heap.size wa gl wc g) := OW9.out.kept on10 (fun k hk h => by have h1 := hwlt.out k h; have h2 := OG9.out.lt k hk; have := hx23.out; omega)
  have HB10 : Hid (Below w.heap.size w x10) := on10.below HB9.out HB9.out.size (fun k hk => by have h1 := OG9.out.lt k hk; have h2 := HB3.out.size; omega)
  clear og10 on10 OG9 OW9
  generalize hq10 : ((1 + 2 * gl : Nat) : Int) = q10
  have hq10p : 0 ≤ q10 := by omega
  have HQ : Hid (((1 + 2 * gl : Nat) : Int) = q10) := hq10
  clear hq10
  go_wp2_with fail
  refine (heldSS_any _ _ _ 1 _ OG10.out.setts (by omega) (by omega)).mono ?_
  rintro e x11 ⟨rfl, hb11⟩
  have OG11 : Hid (OwnS x11 x3.heap.size ga gl gc (marksS 1 gl)) := OG10.out.below hb11
  have OW11 : Hid (OwnS x11 x1.heap.size wa gl wc g) := OW10.out.below hb11
  have HB11 : Hid (Below w.heap.size w x11) := HB10.out.trans (hb11.mono HB10.out.size)
  clear hb11 OG10 OW10
  rw [HQ.out]
  go_wp2_with fail
  refine (toByteS_any _ _ _ _ _ (HS.out.below HB11.out) hl).mono ?_
  rintro e x12 ⟨rfl, ho12, hb12⟩
  have S12 : Hid (Seg x12 (some ⟨x11.heap.size, 0, none⟩) len0 zs) := Seg.ofOwn ho12 HS.out.2.1
  have OG12 : Hid (OwnS x12 x3.heap.size ga gl gc (marksS 1 gl)) := OG11.out.below hb12
  have OW12 : Hid (OwnS x12 x1.heap.size wa gl wc g) := OW11.out.below hb12
  have HB12 : Hid (Below w.heap.size w x12) := HB11.out.trans (hb12.mono HB11.out.size)
  clear ho12 hb12 OG11 OW11
  go_wp2_with fail
  refine (HIm.out _ x12 S12.out).mono ?_
  rintro e x13 ⟨ha, hc, rfl, oh13, hb13⟩
  have OH13 : Hid (OwnS x13 x12.heap.size ha gl hc g) := oh13
  have OG13 : Hid (OwnS x13 x3.heap.size ga gl gc (marksS 1 gl)) := OG12.out.below hb13
  have OW13 : Hid (OwnS x13 x1.heap.size wa gl wc g) := OW12.out.below hb13
  have HB13 : Hid (Below w.heap.size w x13) := HB12.out.trans (hb13.mono HB12.out.size)
  clear oh13 hb13 OG12 OW12
  go_wp2_with fail
  refine (eqSettS_same _ _ _ _ _ _ _ OH13.out.setts OW13.out.setts (by omega)).mono ?_
  rintro e x14 ⟨rfl, hb14⟩
  have OG14 : Hid (OwnS x14 x3.heap.size ga gl gc (marksS 1 gl)) := OG13.out.below hb14
  have HB14 : Hid (Below w.heap.size w x14) := HB13.out.trans (hb14.mono HB13.out.size)
  clear hb14 OG13 OW13 OH13
  go_wp2_with fail
  refine (heldSS_any _ _ _ 1 _ OG14.out.setts (by omega) (by omega)).mono ?_
  rintro e x15 ⟨rfl, hb15⟩
  have HB15 : Hid (Below w.heap.size w x15) := HB14.out.trans (hb15.mono HB14.out.size)
  clear hb15
  rw [HQ.out]
  go_wp2
  go_ret
  exact ⟨rfl, HB15.out⟩

set_option maxRecDepth 100000 in
theorem lifted (os : Os) (started : os.Started) (H : Type) (enc : TypeId × Value → H) :
    ReturnsInHanded {} Try.checked os 8 .any (Rows.fnExactGetSettingsSpec.pre6 enc Try.prog Try.f8 Rows.fnExactGetSettingsRow.domain false) (Rows.fnExactGetSettingsSpec.post enc Try.prog Try.f8 false true false false) := by
  refine returnsInHanded_of_change (C := Try.checked) own started (by kernel_rfl) Try.func8
    (ChangeSpec.witness6 (enc := enc) (C := Try.checked) false ⟨#[], #[.slice none 0 0], []⟩ 8 (by kernel_rfl) (by kernel_rfl) (by kernel_rfl) (by kernel_rfl)) ?_
  intro W base args ds gs before hval0 hW hcnd _
  have hval : ∀ (j : Nat) t v, Try.f8.params[j]? = some t → args[j]? = some v → Value.okWide Try.prog W .any base t v := hval0
  have hW' := hW
  obtain ⟨p, q, hA0, hV, rfl, hfz, hnd⟩ := hW
  have hA : DataW.TrodAll enc Try.prog W 0 (fun _ => true) true Try.f8.params.toList args.toList ds p := hA0
  rw [Try.params8] at hA hval
  obtain ⟨v0, vs0, d0, ds0, p0, q0, hargs, rfl, rfl, h0, r0⟩ := trodAll_cons hA
  obtain ⟨rfl, rfl, rfl⟩ := trodAll_nil r0
  obtain rfl : args = #[v0] := by cases args; simp_all
  obtain ⟨rfl, rfl⟩ := trodVars_none hV
  obtain ⟨a0, len0, cap0, rfl⟩ := okWide_slice Try.underlying22 (hval 0 22 v0 rfl rfl)
  have k0 := h0
  have lt0 : ∀ x ∈ p0, x.block < W.heap.size := by obtain ⟨m, hm⟩ := k0; exact DataW.trod_lt m _ _ _ hm
  obtain ⟨z0, w0⟩ : ∃ zs, IsRow .u8 W a0 len0 cap0 zs := by
    obtain ⟨fuel, hf⟩ := h0
    rcases open_ints Try.underlying22 Try.underlying5 (by kernel_rfl) hf with ⟨hcs, _⟩ | ⟨x, l, c, zs, hcs, _, hl, hm, hz, _, hcell, hwz⟩
    · simp [Value.cells] at hcs
      obtain ⟨rfl, rfl, rfl⟩ := hcs
      exact ⟨[], .inl ⟨rfl, rfl, rfl, rfl⟩⟩
    · simp [Value.cells] at hcs
      obtain ⟨rfl, rfl, rfl⟩ := hcs
      exact ⟨zs, .inr ⟨_, rfl, hl, hm, by simpa using hz, hcell, hwz⟩⟩
  clear hA0 hval0
  refine (walk a0 len0 cap0 z0 W w0).mono fun e W' ⟨he, bel⟩ => ?_
  subst he
  exact ⟨_, rfl, _, _, _, [], _, [], hW', trodAll_mk1 (shut_bool Try.underlying4 _), (trodAll_cons_mk (Below.trod laidOut (by kernel_rfl) (of_decide_eq_true (by kernel_rfl)) k0 bel lt0) trodAll_mk0), rfl, bel.frame _, fun h => by cases h⟩

theorem over : Rows.fnExactGetSettingsRow.holds Try.pinned (OpenSpec.ofChange Rows.fnExactGetSettingsSpec) :=
  OpenClaim.holds_of_wide 8 Try.f8 rfl rfl rfl rfl rfl rfl rfl ⟨rfl, rfl, rfl, rfl, rfl⟩ rfl rfl rfl rfl rfl (by kernel_rfl) Try.func8 (by kernel_rfl)
    (of_decide_eq_true (by kernel_rfl)) (by unfold Func.isWrapper; first | (rw [if_pos (by decide +kernel)]; kernel_rfl) | (rw [if_neg (by decide +kernel)]; exact ⟨rfl, rfl⟩))
    (fun os started H enc _ => lifted os started H enc)

theorem proved : Rows.FnExactGetSettingsSaid := over
#print axioms proved
end Go.Proofs.Ytghakpcagacdaam.fnExactGetSettings
