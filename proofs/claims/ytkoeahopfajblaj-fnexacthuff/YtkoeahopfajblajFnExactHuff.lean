/- At every argument the program's Huff answers as the specification's; its answer owns its memory. For every input. -/
import Derived.Test.YtkoeahopfajblajRows
import Derived.Test.YtkoeahopfajblajHimHuff
import Derived.WalkKit
import Derived.ProofKit
import Derived.OpenShut
import Derived.ShutString
namespace Go.Proofs.Ytkoeahopfajblaj.fnExactHuff
open Go.ChangeShapes Go.WideShapes Go.ChangeAt Go.RowKit
open Go.ChangeMaps (open_string shut_string)
set_option linter.unusedVariables false      -- a walk need not use every 'w<i>' (that an integer argument fits its kind)

theorem own : ownKnob Try.prog.godebug = none := by kernel_rfl

theorem walk (a0 : ByteArray) (w0 : a0.size ≤ maxLen) (w : World) :
    Calls Try.prog 6 #[.string a0] w fun e w' => e = .returned (.bool true) ∧ Below w.heap.size w w' := by
  by_cases hbig : 1048576 < a0.size
  · have hbi : (1048576 : Int) < (a0.size : Int) := by omega
    go_enter Try.func6, Try.ntmps6
    go_wp2
    go_ret
    exact ⟨rfl, Below.refl _ _⟩
  · have hbi : ¬ (1048576 : Int) < (a0.size : Int) := by omega
    have hl : a0.size ≤ 1099511627776 := by omega
    have hb0 : (a0.size : Int) ≤ 1048576 := by omega
    go_enter Try.func6, Try.ntmps6
    go_wp2_with fail
    refine (specHuff_any a0 _ hl).mono ?_
    rintro e x1 ⟨g, wa, wc, rfl, ow1, hf1, hb1⟩
    have hlen := hf1.len
    have hpl : g.length ≤ 1099511627776 := by
      have h1 := bitLen_le a0.data.toList
      rw [str_len] at h1
      omega
    clear hlen
    have HF : Hid (HuffOf a0.data.toList g) := hf1
    have OW1 : Hid (Owns x1 w.heap.size wa g.length wc g) := ow1
    have HB1 : Hid (Below w.heap.size w x1) := hb1
    have hwlt : Hid (∀ k, wa.map (·.block) = some k → k < x1.heap.size) := fun k hk => (ow1.lt k hk).2
    clear ow1 hf1 hb1
    go_wp2_with fail
    refine (implHuff_any a0 _ hl).mono ?_
    rintro e x2 ⟨g2, ga, gc, rfl, og2, hf2, hb2⟩
    obtain rfl : g2 = g := hf2.one HF.out
    have OG2 : Hid (Owns x2 x1.heap.size ga g2.length gc g2) := og2
    have OW2 : Hid (Owns x2 w.heap.size wa g2.length wc g2) := OW1.out.below hb2
    have HB2 : Hid (Below w.heap.size w x2) := HB1.out.trans (hb2.mono HB1.out.size)
    clear og2 hf2 hb2 OW1
    generalize hgl : g2.length = gl at *
    have HL : Hid (g2.length = gl) := hgl
    clear hgl
    go_wp2_with fail
    refine (eqByteS_same _ _ _ _ _ _ _ OG2.out.seg OW2.out.seg hpl).mono ?_
    rintro e x3 ⟨rfl, st3⟩
    have OG3 : Hid (Owns x3 x1.heap.size ga gl gc g2) := Still.owns st3 OG2.out
    have OW3 : Hid (Owns x3 w.heap.size wa gl wc g2) := Still.owns st3 OW2.out
    have HB3 : Hid (Below w.heap.size w x3) := Still.below st3 HB2.out
    clear st3 OG2 OW2
    go_wp2_with fail
    refine (mark_one _ _ _ _ _ _ OG3.out (by omega)).mono ?_
    rintro e x4 ⟨rfl, og4, on4⟩
    have OG4 : Hid (Owns x4 x1.heap.size ga gl gc (marks 1 gl)) := og4
    have OW4 : Hid (Owns x4 w.heap.size wa gl wc g2) := by
      refine OW3.out.only on4 ?_
      cases hwa : wa.map (·.block) with
      | none => exact .inl (by cases wa <;> simp_all)
      | some k => exact .inr (fun h => by have h1 := hwlt.out k hwa; have h2 := OG3.out.lt k h.symm; omega)
    have HB4 : Hid (Below w.heap.size w x4) := on4.below HB3.out (by have := HB3.out.size; omega) (fun k hk => by have h1 := OG3.out.lt k hk; have h2 := HB1.out.size; omega)
    clear og4 on4 OG3 OW3
    generalize hq : ((1 + gl : Nat) : Int) = q
    have hqp : 0 ≤ q := by omega
    have HQ : Hid (((1 + gl : Nat) : Int) = q) := hq
    clear hq
    go_wp2_with fail
    refine (held_one _ _ _ _ _ OG4.out (by omega)).mono ?_
    rintro e x5 ⟨rfl, rfl⟩
    rw [HQ.out]
    go_wp2_with fail
    refine (implHuff_any a0 _ hl).mono ?_
    rintro e x6 ⟨g3, ha, hc, rfl, oh6, hf6, hb6⟩
    obtain rfl : g3 = g2 := hf6.one HF.out
    rw [HL.out] at oh6 ⊢
    have OH6 : Hid (Owns x6 x5.heap.size ha gl hc g3) := oh6
    have OG6 : Hid (Owns x6 x1.heap.size ga gl gc (marks 1 gl)) := OG4.out.below hb6
    have OW6 : Hid (Owns x6 w.heap.size wa gl wc g3) := OW4.out.below hb6
    have HB6 : Hid (Below w.heap.size w x6) := HB4.out.trans (hb6.mono HB4.out.size)
    clear oh6 hf6 hb6 OG4 OW4
    go_wp2_with fail
    refine (eqByteS_same _ _ _ _ _ _ _ OH6.out.seg OW6.out.seg hpl).mono ?_
    rintro e x7 ⟨rfl, st7⟩
    have OG7 : Hid (Owns x7 x1.heap.size ga gl gc (marks 1 gl)) := Still.owns st7 OG6.out
    have HB7 : Hid (Below w.heap.size w x7) := Still.below st7 HB6.out
    clear st7 OG6 OW6 OH6
    go_wp2_with fail
    refine (held_one _ _ _ _ _ OG7.out (by omega)).mono ?_
    rintro e x8 ⟨rfl, rfl⟩
    rw [HQ.out]
    go_wp2
    go_ret
    exact ⟨rfl, HB7.out⟩

set_option maxRecDepth 100000 in
theorem lifted (os : Os) (started : os.Started) (H : Type) (enc : TypeId × Value → H) :
    ReturnsInHanded {} Try.checked os 6 .any (Rows.fnExactHuffSpec.pre6 enc Try.prog Try.f6 Rows.fnExactHuffRow.domain false) (Rows.fnExactHuffSpec.post enc Try.prog Try.f6 false true false false) := by
  refine returnsInHanded_of_change (C := Try.checked) own started (by kernel_rfl) Try.func6
    (ChangeSpec.witness6 (enc := enc) (C := Try.checked) false ⟨#[], #[.string ByteArray.empty], []⟩ 8 (by kernel_rfl) (by kernel_rfl) (by kernel_rfl) (by kernel_rfl)) ?_
  intro W base args ds gs before hval0 hW hcnd _
  have hval : ∀ (j : Nat) t v, Try.f6.params[j]? = some t → args[j]? = some v → Value.okWide Try.prog W .any base t v := hval0
  have hW' := hW
  obtain ⟨p, q, hA0, hV, rfl, hfz, hnd⟩ := hW
  have hA : DataW.TrodAll enc Try.prog W 0 (fun _ => true) true Try.f6.params.toList args.toList ds p := hA0
  rw [Try.params6] at hA hval
  obtain ⟨v0, vs0, d0, ds0, p0, q0, hargs, rfl, rfl, h0, r0⟩ := trodAll_cons hA
  obtain ⟨rfl, rfl, rfl⟩ := trodAll_nil r0
  obtain rfl : args = #[v0] := by cases args; simp_all
  obtain ⟨rfl, rfl⟩ := trodVars_none hV
  obtain ⟨a0, rfl, rfl, rfl, w0⟩ := open_string Try.underlying9 (hval 0 9 v0 rfl rfl) h0
  clear hA0 hval0
  simp only [List.append_nil] at hW'
  refine (walk a0 w0 W).mono fun e W' ⟨he, hg⟩ => ?_
  subst he
  exact ⟨_, rfl, _, _, _, [], _, [], hW', trodAll_mk1 (shut_bool Try.underlying4 _), (trodAll_cons_mk (shut_string Try.underlying9 w0) trodAll_mk0), rfl, hg.frame _, fun h => by cases h⟩

theorem over : Rows.fnExactHuffRow.holds Try.pinned (OpenSpec.ofChange Rows.fnExactHuffSpec) :=
  OpenClaim.holds_of_wide 6 Try.f6 rfl rfl rfl rfl rfl rfl rfl ⟨rfl, rfl, rfl, rfl, rfl⟩ rfl rfl rfl rfl rfl (by kernel_rfl) Try.func6 (by kernel_rfl)
    (of_decide_eq_true (by kernel_rfl)) (by unfold Func.isWrapper; first | (rw [if_pos (by decide +kernel)]; kernel_rfl) | (rw [if_neg (by decide +kernel)]; exact ⟨rfl, rfl⟩))
    (fun os started H enc _ => lifted os started H enc)

theorem proved : Rows.FnExactHuffSaid :=
  over
#print axioms proved
end Go.Proofs.Ytkoeahopfajblaj.fnExactHuff
