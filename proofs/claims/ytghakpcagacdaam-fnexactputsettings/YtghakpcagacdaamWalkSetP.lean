/- The law that PutSettings answers as the specification's: its walk. -/
import Derived.Test.YtghakpcagacdaamSetTo
import Derived.Test.YtghakpcagacdaamSetMark
import Derived.Test.YtghakpcagacdaamSetPutS
import Derived.Test.YtghakpcagacdaamMarkB
namespace Go.Proofs.Ytghakpcagacdaam
open Go.RowKit
set_option linter.unusedVariables false

set_option maxRecDepth 10000 in
set_option maxHeartbeats 3200000 in
theorem setPutWalk (a0 : Option Addr) (len0 cap0 : Nat) (l : List Sett) (w : World) (hl : len0 ≤ maxLen) (hx : Setts w a0 len0 l) :
    Calls Try.prog 7 #[.slice a0 len0 cap0] w fun e w' => e = .returned (.bool true) ∧ Below w.heap.size w w' := by
  have HS : Hid (Setts w a0 len0 l) := hx
  clear hx
  go_enter Try.func7, Try.ntmps7
  go_wp2_with fail
  refine (szSettS_any a0 len0 cap0 w hl).mono ?_
  rintro e x0 ⟨rfl, hw0⟩
  subst x0
  by_cases hbig : (1048576 : Int) - len0 < 0
  · rw [if_pos hbig]
    go_wp2_with fail
    go_ret
    exact ⟨rfl, Below.refl _ _⟩
  rw [if_neg hbig]
  have hle : len0 ≤ 1048576 := by omega
  have hnn : ¬ (1048576 : Int) - (len0 : Int) < 0 := hbig
  generalize (1048576 : Int) - (len0 : Int) = left0 at *
  clear hbig
  obtain ⟨gl, hgl⟩ : ∃ gl, 6 * len0 = gl := ⟨_, rfl⟩
  have hpl : gl ≤ 1099511627776 := by omega
  have hpl2 : gl ≤ 6291456 := by omega
  have HSp : Hid (∀ (a : Option Addr) (cap : Nat) (W : World), Setts W a len0 l → Calls Try.prog 30 #[.slice a len0 cap] W fun e w' => ∃ a' cap', e = .returned (.slice a' gl cap') ∧ Owns w' W.heap.size a' gl cap' (putS l) ∧ Below W.heap.size W w') := fun a cap W h => by rw [← hgl]; exact specPutS_any a len0 cap l W h hle
  have HIm : Hid (∀ (a : Option Addr) (cap : Nat) (W : World), Setts W a len0 l → Calls Try.prog 32 #[.slice a len0 cap] W fun e w' => ∃ a' cap', e = .returned (.slice a' gl cap') ∧ Owns w' W.heap.size a' gl cap' (putS l) ∧ Below W.heap.size W w') := fun a cap W h => by rw [← hgl]; exact implPutS_any a len0 cap l W h hle
  generalize putS l = g at *
  clear hgl
  go_wp2_with fail
  refine (toSettS_own a0 len0 cap0 l w HS.out hle).mono ?_
  rintro e x1 ⟨rfl, ho1, hb1⟩
  have S1 : Hid (Setts x1 (some ⟨w.heap.size, 0, none⟩) len0 l) := ho1.setts
  have HB1 : Hid (Below w.heap.size w x1) := hb1
  clear ho1 hb1
  go_wp2_with fail
  refine (HSp.out _ _ x1 S1.out).mono ?_
  rintro e x2 ⟨wa, wc, rfl, ow2, hb2⟩
  have OW2 : Hid (Owns x2 x1.heap.size wa gl wc g) := ow2
  have HB2 : Hid (Below w.heap.size w x2) := HB1.out.trans (hb2.mono HB1.out.size)
  clear ow2 hb2
  go_wp2_with fail
  refine (toSettS_own a0 len0 cap0 l x2 (HS.out.below HB2.out) hle).mono ?_
  rintro e x3 ⟨rfl, ho3, hb3⟩
  have OX3 : Hid (OwnS x3 x2.heap.size (some ⟨x2.heap.size, 0, none⟩) len0 len0 l) := ho3
  have OW3 : Hid (Owns x3 x1.heap.size wa gl wc g) := OW2.out.below hb3
  have HB3 : Hid (Below w.heap.size w x3) := HB2.out.trans (hb3.mono HB2.out.size)
  have hwlt : Hid (∀ k, wa.map (·.block) = some k → k < x2.heap.size) := fun k hk => (OW2.out.lt k hk).2
  have hx23 : Hid (x2.heap.size < x3.heap.size) := (ho3.lt _ rfl).2
  clear ho3 hb3 OW2
  go_wp2_with fail
  refine (HIm.out _ _ x3 OX3.out.setts).mono ?_
  rintro e x4 ⟨ga, gc, rfl, og4, hb4⟩
  have OG4 : Hid (Owns x4 x3.heap.size ga gl gc g) := og4
  have OX4 : Hid (OwnS x4 x2.heap.size (some ⟨x2.heap.size, 0, none⟩) len0 len0 l) := OX3.out.below hb4
  have OW4 : Hid (Owns x4 x1.heap.size wa gl wc g) := OW3.out.below hb4
  have HB4 : Hid (Below w.heap.size w x4) := HB3.out.trans (hb4.mono HB3.out.size)
  clear og4 hb4 OX3 OW3
  go_wp2_with fail
  refine (eqByteS_same _ _ _ _ _ _ _ OG4.out.seg OW4.out.seg hpl).mono ?_
  rintro e x5 ⟨rfl, st5⟩
  have hb5 : Below x4.heap.size x4 x5 := Still.below st5 (Below.refl _ _)
  have OG5 : Hid (Owns x5 x3.heap.size ga gl gc g) := OG4.out.below hb5
  have OX5 : Hid (OwnS x5 x2.heap.size (some ⟨x2.heap.size, 0, none⟩) len0 len0 l) := OX4.out.below hb5
  have OW5 : Hid (Owns x5 x1.heap.size wa gl wc g) := OW4.out.below hb5
  have HB5 : Hid (Below w.heap.size w x5) := HB4.out.trans (hb5.mono HB4.out.size)
  clear st5 hb5 OG4 OX4 OW4 HB4
  go_wp2_with fail
  refine (toSettS_own a0 len0 cap0 l x5 (HS.out.below HB5.out) hle).mono ?_
  rintro e x6 ⟨rfl, ho6, hb6⟩
  have S6 : Hid (Setts x6 (some ⟨x5.heap.size, 0, none⟩) len0 l) := ho6.setts
  have OG6 : Hid (Owns x6 x3.heap.size ga gl gc g) := OG5.out.below hb6
  have OX6 : Hid (OwnS x6 x2.heap.size (some ⟨x2.heap.size, 0, none⟩) len0 len0 l) := OX5.out.below hb6
  have OW6 : Hid (Owns x6 x1.heap.size wa gl wc g) := OW5.out.below hb6
  have HB6 : Hid (Below w.heap.size w x6) := HB5.out.trans (hb6.mono HB5.out.size)
  clear ho6 hb6 OG5 OX5 OW5
  go_wp2_with fail
  refine (eqSettS_same _ _ _ _ _ _ _ OX6.out.setts S6.out (by omega)).mono ?_
  rintro e x7 ⟨rfl, hb7⟩
  have OG7 : Hid (Owns x7 x3.heap.size ga gl gc g) := OG6.out.below hb7
  have OX7 : Hid (OwnS x7 x2.heap.size (some ⟨x2.heap.size, 0, none⟩) len0 len0 l) := OX6.out.below hb7
  have OW7 : Hid (Owns x7 x1.heap.size wa gl wc g) := OW6.out.below hb7
  have HB7 : Hid (Below w.heap.size w x7) := HB6.out.trans (hb7.mono HB6.out.size)
  clear hb7 OG6 OX6 OW6 S6
  go_wp2_with fail
  refine (markSS_any _ _ _ _ 1 _ _ OX7.out (by omega) (by omega)).mono ?_
  rintro e x8 ⟨rfl, _, on8⟩
  have OG8 : Hid (Owns x8 x3.heap.size ga gl gc g) := OG7.out.only on8 (.inr (fun h => by have := OG7.out.lt x2.heap.size h; have := hx23.out; omega))
  have OW8 : Hid (Owns x8 x1.heap.size wa gl wc g) := OW7.out.only on8 (.inr (fun h => by have := hwlt.out x2.heap.size h; omega))
  have HB8 : Hid (Below w.heap.size w x8) := on8.below HB7.out HB7.out.size (fun k hk => by simp at hk; have := HB2.out.size; omega)
  clear on8 OG7 OX7 OW7
  generalize hq8 : ((1 + 2 * len0 : Nat) : Int) = q8
  have hq8p : 0 ≤ q8 := by omega
  clear hq8
  go_wp2_with fail
  refine (eqByteS_same _ _ _ _ _ _ _ OG8.out.seg OW8.out.seg hpl).mono ?_
  rintro e x9 ⟨rfl, st9⟩
  have OG9 : Hid (Owns x9 x3.heap.size ga gl gc g) := Still.owns st9 OG8.out
  have OW9 : Hid (Owns x9 x1.heap.size wa gl wc g) := Still.owns st9 OW8.out
  have HB9 : Hid (Below w.heap.size w x9) := Still.below st9 HB8.out
  clear st9 OG8 OW8
  go_wp2_with fail
  refine (mark_one _ _ _ _ _ _ OG9.out (by omega)).mono ?_
  rintro e x10 ⟨rfl, og10, on10⟩
  have OG10 : Hid (Owns x10 x3.heap.size ga gl gc (marks 1 gl)) := og10
  have OW10 : Hid (Owns x10 x1.heap.size wa gl wc g) := by
    refine OW9.out.only on10 ?_
    cases hwa : wa.map (·.block) with
    | none => exact .inl (by cases wa <;> simp_all)
    | some k => exact .inr (fun h => by have h1 := hwlt.out k hwa; have h2 := OG9.out.lt k h.symm; have := hx23.out; omega)
  have HB10 : Hid (Below w.heap.size w x10) := on10.below HB9.out HB9.out.size (fun k hk => by have h1 := OG9.out.lt k hk; have h2 := HB3.out.size; omega)
  clear og10 on10 OG9 OW9
  generalize hq10 : ((1 + gl : Nat) : Int) = q10
  have hq10p : 0 ≤ q10 := by omega
  have HQ : Hid (((1 + gl : Nat) : Int) = q10) := hq10
  clear hq10
  go_wp2_with fail
  refine (held_one _ _ _ _ _ OG10.out (by omega)).mono ?_
  rintro e x11 ⟨rfl, rfl⟩
  rw [HQ.out]
  go_wp2_with fail
  refine (toSettS_own a0 len0 cap0 l x11 (HS.out.below HB10.out) hle).mono ?_
  rintro e x12 ⟨rfl, ho12, hb12⟩
  have S12 : Hid (Setts x12 (some ⟨x11.heap.size, 0, none⟩) len0 l) := ho12.setts
  have OG12 : Hid (Owns x12 x3.heap.size ga gl gc (marks 1 gl)) := OG10.out.below hb12
  have OW12 : Hid (Owns x12 x1.heap.size wa gl wc g) := OW10.out.below hb12
  have HB12 : Hid (Below w.heap.size w x12) := HB10.out.trans (hb12.mono HB10.out.size)
  clear ho12 hb12 OG10 OW10
  go_wp2_with fail
  refine (HIm.out _ _ x12 S12.out).mono ?_
  rintro e x13 ⟨ha, hc, rfl, oh13, hb13⟩
  have OH13 : Hid (Owns x13 x12.heap.size ha gl hc g) := oh13
  have OG13 : Hid (Owns x13 x3.heap.size ga gl gc (marks 1 gl)) := OG12.out.below hb13
  have OW13 : Hid (Owns x13 x1.heap.size wa gl wc g) := OW12.out.below hb13
  have HB13 : Hid (Below w.heap.size w x13) := HB12.out.trans (hb13.mono HB12.out.size)
  clear oh13 hb13 OG12 OW12
  go_wp2_with fail
  refine (eqByteS_same _ _ _ _ _ _ _ OH13.out.seg OW13.out.seg hpl).mono ?_
  rintro e x14 ⟨rfl, st14⟩
  have OG14 : Hid (Owns x14 x3.heap.size ga gl gc (marks 1 gl)) := Still.owns st14 OG13.out
  have HB14 : Hid (Below w.heap.size w x14) := Still.below st14 HB13.out
  clear st14 OG13 OW13 OH13
  go_wp2_with fail
  refine (held_one _ _ _ _ _ OG14.out (by omega)).mono ?_
  rintro e x15 ⟨rfl, rfl⟩
  rw [HQ.out]
  go_wp2
  go_ret
  exact ⟨rfl, HB14.out⟩

end Go.Proofs.Ytghakpcagacdaam
