/- Pad answers as the specification's at every list of bytes and every number; for lists of at most 2^20 bytes, as the statement asks. -/
import Derived.Test.YtghakpcagacdaanRows
import Derived.Test.YtghakpcagacdaanPadS
import Derived.Test.YtghakpcagacdaanMarkB
import Derived.WalkKit
import Derived.ProofKit
import Derived.OpenShut
import Derived.ShutString
import Derived.ChangeOld
import Derived.Below
namespace Go.Proofs.Ytghakpcagacdaan.fnExactPad
open Go.ChangeShapes Go.WideShapes Go.ChangeAt Go.RowKit
open Go.ChangeMaps (open_string shut_string)
set_option linter.unusedVariables false

theorem own : ownKnob Try.prog.godebug = none := by kernel_rfl
theorem laidOut : laidOutB Try.prog = true := by kernel_rfl

theorem walk (a0 : Option Addr) (len0 cap0 : Nat) (z0 : List Int) (a1 : Int) (w : World) (w0 : IsRow .u8 w a0 len0 cap0 z0) (w1 : (Lit.int .i64 a1).wf = true) :
    Calls Try.prog 6 #[.slice a0 len0 cap0, .int .i64 a1] w fun e w' => e = .returned (.bool true) ∧ Below w.heap.size w w' := by
  have hs := w0.seg
  generalize z0.take len0 = zs at hs
  clear w0 w1
  by_cases hbig : 1048576 < len0
  · have hbi : (1048576 : Int) < (len0 : Int) := by omega
    go_enter Try.func6, Try.ntmps6
    go_wp2
    go_ret
    exact ⟨rfl, Below.refl _ _⟩
  · have hbi : ¬ (1048576 : Int) < (len0 : Int) := by omega
    have hl : len0 ≤ 1099511627776 := by omega
    have HS : Hid (Seg w a0 len0 zs) := hs
    clear hs
    obtain ⟨M, hM⟩ : ∃ M, padN a1 = M := ⟨_, rfl⟩
    have hM255 : M ≤ 255 := by have := padN_le a1; omega
    obtain ⟨gl, hgl⟩ : ∃ gl, 1 + len0 + M = gl := ⟨_, rfl⟩
    have hpl : gl ≤ 1099511627776 := by omega
    have hpl2 : gl ≤ 2000000 := by omega
    have HM : Hid (padN a1 = M) := hM
    have HL : Hid (1 + len0 + M = gl) := hgl
    clear hM hgl
    obtain ⟨g, hgg⟩ : ∃ g, padB zs M = g := ⟨_, rfl⟩
    have HG : Hid (padB zs M = g) := hgg
    clear hgg
    go_enter Try.func6, Try.ntmps6
    go_wp2_with fail
    refine (toByteS_any _ _ _ _ _ HS.out hl).mono ?_
    rintro e x1 ⟨rfl, ho1, hb1⟩
    have S1 : Hid (Seg x1 (some ⟨w.heap.size, 0, none⟩) len0 zs) := Seg.ofOwn ho1 HS.out.2.1
    have HB1 : Hid (Below w.heap.size w x1) := hb1
    have hlt1 : w.heap.size < x1.heap.size := (ho1.lt _ rfl).2
    clear ho1 hb1
    go_wp2_with fail
    refine (specPad_any _ _ _ _ _ _ _ _ _ S1.out hlt1 hl HM.out HL.out).mono ?_
    rintro e x2 ⟨wa, wc, rfl, ow2, hb2⟩
    rw [HG.out] at ow2
    have OW2 : Hid (Owns x2 x1.heap.size wa gl wc g) := ow2
    have HB2 : Hid (Below w.heap.size w x2) := HB1.out.trans (hb2.mono HB1.out.size)
    clear ow2 hb2
    go_wp2_with fail
    refine (toByteS_any _ _ _ _ _ (HS.out.below HB2.out) hl).mono ?_
    rintro e x3 ⟨rfl, ho3, hb3⟩
    have OX3 : Hid (Owns x3 x2.heap.size (some ⟨x2.heap.size, 0, none⟩) len0 len0 zs) := ⟨ho3, HS.out.2.1⟩
    have OW3 : Hid (Owns x3 x1.heap.size wa gl wc g) := OW2.out.below hb3
    have HB3 : Hid (Below w.heap.size w x3) := HB2.out.trans (hb3.mono HB2.out.size)
    have hlt3 : x2.heap.size < x3.heap.size := (ho3.lt _ rfl).2
    have hwlt : Hid (∀ k, wa.map (·.block) = some k → k < x2.heap.size) := fun k hk => (OW2.out.lt k hk).2
    clear ho3 hb3 OW2
    go_wp2_with fail
    refine (implPad_any _ _ _ _ _ _ _ _ OX3.out.seg hl HM.out HL.out).mono ?_
    rintro e x4 ⟨gab, gc, rfl, og4, hb4⟩
    rw [HG.out] at og4
    obtain ⟨ga, hga⟩ : ∃ ga, some (⟨gab, 0, none⟩ : Addr) = ga := ⟨_, rfl⟩
    rw [hga] at og4 ⊢
    clear hga
    have OG4 : Hid (Owns x4 x3.heap.size ga gl gc g) := og4
    have OX4 : Hid (Owns x4 x2.heap.size (some ⟨x2.heap.size, 0, none⟩) len0 len0 zs) := OX3.out.below hb4
    have OW4 : Hid (Owns x4 x1.heap.size wa gl wc g) := OW3.out.below hb4
    have HB4 : Hid (Below w.heap.size w x4) := HB3.out.trans (hb4.mono HB3.out.size)
    clear og4 hb4 OX3 OW3
    go_wp2_with fail
    refine (eqByteS_same _ _ _ _ _ _ _ OG4.out.seg OW4.out.seg hpl).mono ?_
    rintro e x5 ⟨rfl, st5⟩
    have OG5 : Hid (Owns x5 x3.heap.size ga gl gc g) := Still.owns st5 OG4.out
    have OX5 : Hid (Owns x5 x2.heap.size (some ⟨x2.heap.size, 0, none⟩) len0 len0 zs) := Still.owns st5 OX4.out
    have OW5 : Hid (Owns x5 x1.heap.size wa gl wc g) := Still.owns st5 OW4.out
    have HB5 : Hid (Below w.heap.size w x5) := Still.below st5 HB4.out
    clear st5 OG4 OX4 OW4
    go_wp2_with fail
    refine (toByteS_any _ _ _ _ _ (HS.out.below HB5.out) hl).mono ?_
    rintro e x6 ⟨rfl, ho6, hb6⟩
    have S6 : Hid (Seg x6 (some ⟨x5.heap.size, 0, none⟩) len0 zs) := Seg.ofOwn ho6 HS.out.2.1
    have OG6 : Hid (Owns x6 x3.heap.size ga gl gc g) := OG5.out.below hb6
    have OX6 : Hid (Owns x6 x2.heap.size (some ⟨x2.heap.size, 0, none⟩) len0 len0 zs) := OX5.out.below hb6
    have OW6 : Hid (Owns x6 x1.heap.size wa gl wc g) := OW5.out.below hb6
    have HB6 : Hid (Below w.heap.size w x6) := HB5.out.trans (hb6.mono HB5.out.size)
    clear ho6 hb6 OG5 OX5 OW5
    go_wp2_with fail
    refine (eqByteS_same _ _ _ _ _ _ _ OX6.out.seg S6.out hl).mono ?_
    rintro e x7 ⟨rfl, st7⟩
    have OG7 : Hid (Owns x7 x3.heap.size ga gl gc g) := Still.owns st7 OG6.out
    have OX7 : Hid (Owns x7 x2.heap.size (some ⟨x2.heap.size, 0, none⟩) len0 len0 zs) := Still.owns st7 OX6.out
    have OW7 : Hid (Owns x7 x1.heap.size wa gl wc g) := Still.owns st7 OW6.out
    have HB7 : Hid (Below w.heap.size w x7) := Still.below st7 HB6.out
    clear st7 OG6 OX6 OW6 S6
    go_wp2_with fail
    refine (mark_one _ _ _ _ _ _ OX7.out (by omega)).mono ?_
    rintro e x8 ⟨rfl, _, on8⟩
    have OG8 : Hid (Owns x8 x3.heap.size ga gl gc g) := OG7.out.only on8 (.inr (fun h => by have := OG7.out.lt x2.heap.size h; omega))
    have OW8 : Hid (Owns x8 x1.heap.size wa gl wc g) := OW7.out.only on8 (.inr (fun h => by have := hwlt.out x2.heap.size h; omega))
    have HB8 : Hid (Below w.heap.size w x8) := on8.below HB7.out (by have := HB7.out.size; omega) (fun k hk => by simp at hk; have := HB2.out.size; omega)
    clear on8 OG7 OX7 OW7
    generalize hq8 : ((1 + len0 : Nat) : Int) = q8
    have hq8p : 0 ≤ q8 := by omega
    clear hq8
    go_wp2_with fail
    refine (eqByteS_same _ _ _ _ _ _ _ OG8.out.seg OW8.out.seg hpl).mono ?_
    rintro e x9 ⟨rfl, st9⟩
    have OG9 : Hid (Owns x9 x3.heap.size ga gl gc g) := Still.owns st9 OG8.out
    have OW9 : Hid (Owns x9 x1.heap.size wa gl wc g) := Still.owns st9 OW8.out
    have HB9 : Hid (Below w.heap.size w x9) := Still.below st9 HB8.out
    clear st9 OG8 OW8
    go_wp2_with fail
    refine (mark_one _ _ _ _ _ _ OG9.out (by omega)).mono ?_
    rintro e x10 ⟨rfl, og10, on10⟩
    have OG10 : Hid (Owns x10 x3.heap.size ga gl gc (marks 1 gl)) := og10
    have OW10 : Hid (Owns x10 x1.heap.size wa gl wc g) := by
      refine OW9.out.only on10 ?_
      cases hwa : wa.map (·.block) with
      | none => exact .inl (by cases wa <;> simp_all)
      | some k => exact .inr (fun h => by have h1 := hwlt.out k hwa; have h2 := OG9.out.lt k h.symm; omega)
    have HB10 : Hid (Below w.heap.size w x10) := on10.below HB9.out (by have := HB9.out.size; omega) (fun k hk => by have h1 := OG9.out.lt k hk; have h2 := HB3.out.size; omega)
    clear og10 on10 OG9 OW9
    generalize hq10 : ((1 + gl : Nat) : Int) = q10
    have hq10p : 0 ≤ q10 := by omega
    have HQ : Hid (((1 + gl : Nat) : Int) = q10) := hq10
    clear hq10
    go_wp2_with fail
    refine (held_one _ _ _ _ _ OG10.out (by omega)).mono ?_
    rintro e x11 ⟨rfl, rfl⟩
    rw [HQ.out]
    go_wp2_with fail
    refine (toByteS_any _ _ _ _ _ (HS.out.below HB10.out) hl).mono ?_
    rintro e x12 ⟨rfl, ho12, hb12⟩
    have S12 : Hid (Seg x12 (some ⟨x11.heap.size, 0, none⟩) len0 zs) := Seg.ofOwn ho12 HS.out.2.1
    have OG12 : Hid (Owns x12 x3.heap.size ga gl gc (marks 1 gl)) := OG10.out.below hb12
    have OW12 : Hid (Owns x12 x1.heap.size wa gl wc g) := OW10.out.below hb12
    have HB12 : Hid (Below w.heap.size w x12) := HB10.out.trans (hb12.mono HB10.out.size)
    have hlt12 : x11.heap.size < x12.heap.size := (ho12.lt _ rfl).2
    clear ho12 hb12 OG10 OW10
    go_wp2_with fail
    refine (implPad_any _ _ _ _ _ _ _ _ S12.out hl HM.out HL.out).mono ?_
    rintro e x13 ⟨hab, hc, rfl, oh13, hb13⟩
    rw [HG.out] at oh13
    obtain ⟨ha, hha⟩ : ∃ ha, some (⟨hab, 0, none⟩ : Addr) = ha := ⟨_, rfl⟩
    rw [hha] at oh13 ⊢
    clear hha
    have OH13 : Hid (Owns x13 x12.heap.size ha gl hc g) := oh13
    have OG13 : Hid (Owns x13 x3.heap.size ga gl gc (marks 1 gl)) := OG12.out.below hb13
    have OW13 : Hid (Owns x13 x1.heap.size wa gl wc g) := OW12.out.below hb13
    have HB13 : Hid (Below w.heap.size w x13) := HB12.out.trans (hb13.mono HB12.out.size)
    clear oh13 hb13 OG12 OW12
    go_wp2_with fail
    refine (eqByteS_same _ _ _ _ _ _ _ OH13.out.seg OW13.out.seg hpl).mono ?_
    rintro e x14 ⟨rfl, st14⟩
    have OG14 : Hid (Owns x14 x3.heap.size ga gl gc (marks 1 gl)) := Still.owns st14 OG13.out
    have HB14 : Hid (Below w.heap.size w x14) := Still.below st14 HB13.out
    clear st14 OG13 OW13 OH13
    go_wp2_with fail
    refine (held_one _ _ _ _ _ OG14.out (by omega)).mono ?_
    rintro e x15 ⟨rfl, rfl⟩
    rw [HQ.out]
    go_wp2
    go_ret
    exact ⟨rfl, HB14.out⟩

set_option maxRecDepth 100000 in
theorem lifted (os : Os) (started : os.Started) (H : Type) (enc : TypeId × Value → H) :
    ReturnsInHanded {} Try.checked os 6 .any (Rows.fnExactPadSpec.pre6 enc Try.prog Try.f6 Rows.fnExactPadRow.domain false) (Rows.fnExactPadSpec.post enc Try.prog Try.f6 false true false false) := by
  refine returnsInHanded_of_change (C := Try.checked) own started (by kernel_rfl) Try.func6
    (ChangeSpec.witness6 (enc := enc) (C := Try.checked) false ⟨#[], #[.slice none 0 0, .int .i64 0], []⟩ 8 (by kernel_rfl) (by kernel_rfl) (by kernel_rfl) (by kernel_rfl)) ?_
  intro W base args ds gs before hval0 hW hcnd _
  have hval : ∀ (j : Nat) t v, Try.f6.params[j]? = some t → args[j]? = some v → Value.okWide Try.prog W .any base t v := hval0
  have hW' := hW
  obtain ⟨p, q, hA0, hV, rfl, hfz, hnd⟩ := hW
  have hA : DataW.TrodAll enc Try.prog W 0 (fun _ => true) true Try.f6.params.toList args.toList ds p := hA0
  rw [Try.params6] at hA hval
  obtain ⟨v0, vs0, d0, ds0, p0, q0, hargs, rfl, rfl, h0, r0⟩ := trodAll_cons hA
  obtain ⟨v1, vs1, d1, ds1, p1, q1, rfl, rfl, rfl, h1, r1⟩ := trodAll_cons r0
  obtain ⟨rfl, rfl, rfl⟩ := trodAll_nil r1
  obtain rfl : args = #[v0, v1] := by cases args; simp_all
  obtain ⟨rfl, rfl⟩ := trodVars_none hV
  obtain ⟨a0, len0, cap0, rfl⟩ := okWide_slice Try.underlying22 (hval 0 22 v0 rfl rfl)
  have k0 := h0
  have lt0 : ∀ x ∈ p0, x.block < W.heap.size := by obtain ⟨m, hm⟩ := k0; exact DataW.trod_lt m _ _ _ hm
  obtain ⟨z0, w0⟩ : ∃ zs, IsRow .u8 W a0 len0 cap0 zs := by
    obtain ⟨fuel, hf⟩ := h0
    rcases open_ints Try.underlying22 Try.underlying5 (by kernel_rfl) hf with ⟨hcs, _⟩ | ⟨x, l, c, zs, hcs, _, hl, hm, hz, _, hcell, hwz⟩
    · simp [Value.cells] at hcs
      obtain ⟨rfl, rfl, rfl⟩ := hcs
      exact ⟨[], .inl ⟨rfl, rfl, rfl, rfl⟩⟩
    · simp [Value.cells] at hcs
      obtain ⟨rfl, rfl, rfl⟩ := hcs
      exact ⟨zs, .inr ⟨_, rfl, hl, hm, by simpa using hz, hcell, hwz⟩⟩
  obtain ⟨a1, rfl, rfl, rfl, w1⟩ := open_int Try.underlying3 (hval 1 3 v1 rfl rfl) h1
  clear hA0 hval0
  refine (walk a0 len0 cap0 z0 a1 W w0 w1).mono fun e W' ⟨he, bel⟩ => ?_
  subst he
  exact ⟨_, rfl, _, _, _, [], _, [], hW', trodAll_mk1 (shut_bool Try.underlying4 _), (trodAll_cons_mk (Below.trod laidOut (by kernel_rfl) (of_decide_eq_true (by kernel_rfl)) k0 bel lt0) (trodAll_cons_mk (shut_int Try.underlying3 w1) trodAll_mk0)), rfl, bel.frame _, fun h => by cases h⟩

theorem over : Rows.fnExactPadRow.holds Try.pinned (OpenSpec.ofChange Rows.fnExactPadSpec) :=
  OpenClaim.holds_of_wide 6 Try.f6 rfl rfl rfl rfl rfl rfl rfl ⟨rfl, rfl, rfl, rfl, rfl⟩ rfl rfl rfl rfl rfl (by kernel_rfl) Try.func6 (by kernel_rfl)
    (of_decide_eq_true (by kernel_rfl)) (by unfold Func.isWrapper; first | (rw [if_pos (by decide +kernel)]; kernel_rfl) | (rw [if_neg (by decide +kernel)]; exact ⟨rfl, rfl⟩))
    (fun os started H enc _ => lifted os started H enc)

theorem proved : Rows.FnExactPadSaid := over
#print axioms proved
end Go.Proofs.Ytghakpcagacdaan.fnExactPad
