/- The law that Part answers as the specification's: its walk. -/
import Derived.Test.YtpjldfpipchmjaoFrSame
import Derived.Test.YtpjldfpipchmjaoPartI
import Derived.Test.YtpjldfpipchmjaoPartS
namespace Go.Proofs.Ytpjldfpipchmjao
open Go.RowKit
set_option linter.unusedVariables false

theorem FrRow.lens {W : World} {base : Nat} {v : Value} {l : List FE} (h : FrRow W base v l) : ∀ e ∈ l, e.n = e.zs.length := fun e he => ((h.2.1 e he).seg.1).symm

theorem mkEnd_most (k : Nat) (l : List FE) (h : ∀ e ∈ l, e.n ≤ 1000) : mkEnd k l ≤ k + 1003 * l.length := by
  induction l generalizing k with
  | nil => simp [mkEnd]
  | cons e l ih =>
    have h1 := ih (k + 3 + e.n) (fun x hx => h x (List.mem_cons_of_mem _ hx))
    have h2 := h e (List.mem_cons_self ..)
    rw [List.length_cons]
    simp only [mkEnd]
    omega

set_option maxRecDepth 10000 in
set_option maxHeartbeats 3200000 in
theorem partWalk (s : Int) (en : Bool) (a0 : Option Addr) (len0 cap0 : Nat) (most : Int) (zs : List Int) (w : World) (hs : Seg w a0 len0 zs) :
    Calls Try.prog 3 #[.int .i64 s, .bool en, .slice a0 len0 cap0, .int .i64 most] w fun e w' => e = .returned (.bool true) ∧ Below w.heap.size w w' := by
  by_cases hbig : 1048576 < len0
  · have hbi : (1048576 : Int) < (len0 : Int) := by omega
    go_enter Try.func3, Try.ntmps3
    go_wp2
    go_ret
    exact ⟨rfl, Below.refl _ _⟩
  have hbi : ¬ (1048576 : Int) < (len0 : Int) := by omega
  have hl : len0 ≤ 1099511627776 := by omega
  have HS : Hid (Seg w a0 len0 zs) := hs
  obtain ⟨L, hL⟩ : ∃ L, partL s en zs most = L := ⟨_, rfl⟩
  have hzl := hs.1
  have HRd : Hid (partL s en zs most = L) := hL
  obtain ⟨N, hN⟩ : ∃ N, L.length = N := ⟨_, rfl⟩
  have HNL : Hid (L.length = N) := hN
  have hNb : N ≤ 1048577 := by have := partL_len s en zs most; rw [hL] at this; omega
  have HL1 : Hid (∀ e ∈ L, e.2.2.2.length ≤ 1000) := by rw [← hL]; exact partL_body s en zs most
  have hle : len0 ≤ 1048576 := by omega
  clear hs hL hzl hN hbig
  have HLen : Hid (∀ l : List FE, l.map FE.data = L → l.length = N) := fun l h => by rw [← HNL.out, ← h, List.length_map]
  have HSmall : Hid (∀ (W : World) (b : Nat) (v : Value) (l : List FE), FrRow W b v l → l.map FE.data = L → (∀ e ∈ l, e.n ≤ 1099511627776) ∧ mkEnd 1 l ≤ 1100000000) := fun W b v l hrow h => by
    have key : ∀ e ∈ l, e.n ≤ 1000 := fun e he => by
      have h1 := hrow.lens e he
      have h2 := HL1.out (FE.data e) (by rw [← h]; exact List.mem_map_of_mem he)
      simp only [FE.data] at h2
      omega
    refine ⟨fun e he => by have := key e he; omega, ?_⟩
    have h1 := mkEnd_most 1 l key
    have h2 := HLen.out l h
    omega
  clear HNL HL1
  go_enter Try.func3, Try.ntmps3
  go_wp2_with fail
  refine (toByteS_any _ _ _ _ _ HS.out hl).mono ?_
  rintro e x1 ⟨rfl, ho1, hb1⟩
  have S1 : Hid (Seg x1 (some ⟨w.heap.size, 0, none⟩) len0 zs) := Seg.ofOwn ho1 HS.out.2.1
  have HB1 : Hid (Below w.heap.size w x1) := hb1
  clear ho1 hb1
  go_wp2_with fail
  refine (specPart_any s en w.heap.size 0 len0 len0 zs most x1 S1.out (Nat.le_refl _) hle).mono ?_
  rintro e x2 ⟨v2, lw, rfl, hw2, hd2, hb2⟩
  rw [HRd.out] at hd2
  obtain ⟨wa, cw, rfl⟩ := hw2.shape
  have HDw : Hid (lw.map FE.data = L ∧ lw.length = N) := ⟨hd2, HLen.out lw hd2⟩
  rw [HLen.out lw hd2] at hw2 ⊢
  have HW2 : Hid (FrRow x2 x1.heap.size (.slice wa N cw) lw) := hw2
  have HB2 : Hid (Below w.heap.size w x2) := HB1.out.trans (hb2.mono HB1.out.size)
  have HUw : Hid ((∀ q, (Value.slice wa N cw).ownBlock = some q → q < x2.heap.size) ∧ ∀ e ∈ lw, ∀ q, e.a.map (·.block) = some q → q < x2.heap.size) := ⟨fun q hq => (hw2.lts.1 q hq).2, fun e he q hq => (hw2.lts.2 e he q hq).2⟩
  have HSw : Hid (∀ e ∈ lw, e.n ≤ 1099511627776) := (HSmall.out _ _ _ _ hw2 hd2).1
  clear hw2 hd2 hb2 S1 HB1
  go_wp2_with fail
  refine (toByteS_any _ _ _ _ _ (HS.out.below HB2.out) hl).mono ?_
  rintro e x3 ⟨rfl, ho3, hb3⟩
  have HW3 : Hid (FrRow x3 x1.heap.size (.slice wa N cw) lw) := HW2.out.stays hb3
  have HB3 : Hid (Below w.heap.size w x3) := HB2.out.trans (hb3.mono HB2.out.size)
  have HX3 : Hid (Owns x3 x2.heap.size (some ⟨x2.heap.size, 0, none⟩) len0 len0 zs) := ⟨ho3, HS.out.2.1⟩
  have hgx : x2.heap.size < x3.heap.size := (ho3.lt _ rfl).2
  have hwx : w.heap.size ≤ x2.heap.size := HB2.out.size
  clear ho3 hb3 HW2 HB2
  go_wp2_with fail
  refine (implPart_any s en x2.heap.size 0 len0 len0 zs most x3 HX3.out.seg (Nat.le_refl _) hle).mono ?_
  rintro e x4 ⟨v4, lg, rfl, hw4, hd4, hb4⟩
  rw [HRd.out] at hd4
  obtain ⟨ga, gc, rfl⟩ := hw4.shape
  have HDg : Hid (lg.map FE.data = L ∧ lg.length = N) := ⟨hd4, HLen.out lg hd4⟩
  rw [HLen.out lg hd4] at hw4 ⊢
  have HG4 : Hid (FrRow x4 x3.heap.size (.slice ga N gc) lg) := hw4
  have HW4 : Hid (FrRow x4 x1.heap.size (.slice wa N cw) lw) := HW3.out.stays hb4
  have HB4 : Hid (Below w.heap.size w x4) := HB3.out.trans (hb4.mono HB3.out.size)
  have HX4 : Hid (Owns x4 x2.heap.size (some ⟨x2.heap.size, 0, none⟩) len0 len0 zs) := HX3.out.below hb4
  have HSg : Hid ((∀ e ∈ lg, e.n ≤ 1099511627776) ∧ mkEnd 1 lg ≤ 1100000000) := HSmall.out _ _ _ _ hw4 hd4
  have hx34 : x3.heap.size ≤ x4.heap.size := hb4.size
  clear hw4 hd4 hb4 HW3 HX3 HB3
  go_wp2_with fail
  refine (eqFrameS_same ga wa N gc cw _ _ lg lw x4 HG4.out HW4.out HDg.out.2 HDw.out.2 (by rw [HDg.out.1, HDw.out.1]) HSg.out.1 (by omega)).mono ?_
  rintro e x5 ⟨rfl, hb5⟩
  have HG5 : Hid (FrRow x5 x3.heap.size (.slice ga N gc) lg) := HG4.out.stays hb5
  have HW5 : Hid (FrRow x5 x1.heap.size (.slice wa N cw) lw) := HW4.out.stays hb5
  have HX5 : Hid (Owns x5 x2.heap.size (some ⟨x2.heap.size, 0, none⟩) len0 len0 zs) := HX4.out.below hb5
  have HB5 : Hid (Below w.heap.size w x5) := HB4.out.trans (hb5.mono HB4.out.size)
  have hz5 := hb5.size
  clear hb5 HG4 HW4 HX4 HB4
  go_wp2_with fail
  refine (toByteS_any _ _ _ _ _ (HS.out.below HB5.out) hl).mono ?_
  rintro e x8 ⟨rfl, ho8, hb8⟩
  have S8 : Hid (Seg x8 (some ⟨x5.heap.size, 0, none⟩) len0 zs) := Seg.ofOwn ho8 HS.out.2.1
  have HG8 : Hid (FrRow x8 x3.heap.size (.slice ga N gc) lg) := HG5.out.stays hb8
  have HW8 : Hid (FrRow x8 x1.heap.size (.slice wa N cw) lw) := HW5.out.stays hb8
  have HX8 : Hid (Owns x8 x2.heap.size (some ⟨x2.heap.size, 0, none⟩) len0 len0 zs) := HX5.out.below hb8
  have HB8 : Hid (Below w.heap.size w x8) := HB5.out.trans (hb8.mono HB5.out.size)
  have hz8 := hb8.size
  clear ho8 hb8 HG5 HW5 HX5 HB5
  go_wp2_with fail
  refine (eqByteS_same _ _ _ _ _ _ _ HX8.out.seg S8.out hl).mono ?_
  rintro e x9 ⟨rfl, st9⟩
  have hb9 : Below x8.heap.size x8 x9 := Still.below st9 (Below.refl _ _)
  have HG9 : Hid (FrRow x9 x3.heap.size (.slice ga N gc) lg) := HG8.out.stays hb9
  have HW9 : Hid (FrRow x9 x1.heap.size (.slice wa N cw) lw) := HW8.out.stays hb9
  have HX9 : Hid (Owns x9 x2.heap.size (some ⟨x2.heap.size, 0, none⟩) len0 len0 zs) := HX8.out.below hb9
  have HB9 : Hid (Below w.heap.size w x9) := HB8.out.trans (hb9.mono HB8.out.size)
  have HZ9 : Hid (x3.heap.size ≤ x9.heap.size) := Nat.le_trans hx34 (Nat.le_trans hz5 (Nat.le_trans hz8 hb9.size))
  clear st9 hb9 HG8 HW8 HX8 HB8 S8 hz5 hz8 hx34
  go_wp2_with fail
  refine (mark_one _ _ _ _ _ _ HX9.out (by omega)).mono ?_
  rintro e x10 ⟨rfl, _, on10⟩
  have hgr10 : x9.grownBy x10 (some x2.heap.size) := on10
  have HG10 : Hid (FrRow x10 x3.heap.size (.slice ga N gc) lg) := HG9.out.grown hgr10 (fun q e e2 => by injection e with e; have h1 := (HG9.out.lts.1 q e2).1; omega) (fun x hx q e e2 => by injection e with e; have h1 := (HG9.out.lts.2 x hx q e2).1; omega)
  have HW10 : Hid (FrRow x10 x1.heap.size (.slice wa N cw) lw) := HW9.out.grown hgr10 (fun q e e2 => by injection e with e; have h1 := HUw.out.1 q e2; omega) (fun x hx q e e2 => by injection e with e; have h1 := HUw.out.2 x hx q e2; omega)
  have HB10 : Hid (Below w.heap.size w x10) := HB9.out.grown hgr10 HB9.out.size (fun q e => by injection e with e; omega)
  have hx310 : x3.heap.size ≤ x10.heap.size := by
    have h1 : x3.heap.size ≤ x9.heap.size := HZ9.out
    exact Nat.le_trans h1 hgr10.size
  clear on10 hgr10 HG9 HW9 HX9 HB9
  generalize hq8 : ((1 + len0 : Nat) : Int) = q8
  have hq8p : 0 ≤ q8 := by omega
  clear hq8
  go_wp2_with fail
  refine (eqFrameS_same ga wa N gc cw _ _ lg lw x10 HG10.out HW10.out HDg.out.2 HDw.out.2 (by rw [HDg.out.1, HDw.out.1]) HSg.out.1 (by omega)).mono ?_
  rintro e x11 ⟨rfl, hb11⟩
  have HG11 : Hid (FrRow x11 x3.heap.size (.slice ga N gc) lg) := HG10.out.stays hb11
  have HW11 : Hid (FrRow x11 x1.heap.size (.slice wa N cw) lw) := HW10.out.stays hb11
  have HB11 : Hid (Below w.heap.size w x11) := HB10.out.trans (hb11.mono HB10.out.size)
  have hx311 : x3.heap.size ≤ x11.heap.size := Nat.le_trans hx310 hb11.size
  clear hb11 HG10 HW10 HB10
  have hE1 : mkEnd 1 lg ≤ 1100000000 := HSg.out.2
  have HHF : Hid (∀ W : World, FrRow W x3.heap.size (.slice ga N gc) (mkFr 1 lg) → Calls Try.prog 11 #[.slice ga N gc, .int .i64 1] W fun e w' => e = .returned (.int .i64 (mkEnd 1 lg : Int)) ∧ w' = W) := fun W h => heldFrS_any x3.heap.size ga N gc 1 lg W h HDg.out.2 (by have := HSg.out.2; omega) (by omega)
  go_wp2_with fail
  refine (markFrS_any x3.heap.size ga N gc 1 lg x11 HG11.out HDg.out.2 (by omega) (by omega) hx311).mono ?_
  rintro e x12 ⟨rfl, og12, hb12⟩
  have HG12 : Hid (FrRow x12 x3.heap.size (.slice ga N gc) (mkFr 1 lg)) := og12
  have HW12 : Hid (FrRow x12 x1.heap.size (.slice wa N cw) lw) := HW11.out.under hb12 (fun q e => by have h1 := HUw.out.1 q e; omega) (fun x hx q e => by have h1 := HUw.out.2 x hx q e; omega)
  have HB12 : Hid (Below w.heap.size w x12) := HB11.out.trans (hb12.mono (by omega))
  clear og12 hb12 HG11 HW11 HB11
  generalize hq10 : mkEnd 1 lg = Q at *
  have hq10p : ¬ (Q : Int) < 0 := by omega
  have hq10d : decide ((Q : Int) < 0) = false := by simp
  have hq10e : ((Q : Int) != (Q : Int)) = false := by simp
  clear hq10
  go_wp2_with fail
  refine (HHF.out x12 HG12.out).mono ?_
  rintro e x13 ⟨rfl, rfl⟩
  go_wp2_with fail
  refine (toByteS_any _ _ _ _ _ (HS.out.below HB12.out) hl).mono ?_
  rintro e x14 ⟨rfl, ho14, hb14⟩
  have S14 : Hid (Seg x14 (some ⟨x13.heap.size, 0, none⟩) len0 zs) := Seg.ofOwn ho14 HS.out.2.1
  have HG14 : Hid (FrRow x14 x3.heap.size (.slice ga N gc) (mkFr 1 lg)) := HG12.out.stays hb14
  have HW14 : Hid (FrRow x14 x1.heap.size (.slice wa N cw) lw) := HW12.out.stays hb14
  have HB14 : Hid (Below w.heap.size w x14) := HB12.out.trans (hb14.mono HB12.out.size)
  clear ho14 hb14 HG12 HW12 HB12
  go_wp2_with fail
  refine (implPart_any s en x13.heap.size 0 len0 len0 zs most x14 S14.out (Nat.le_refl _) hle).mono ?_
  rintro e x15 ⟨v15, lh, rfl, hw15, hd15, hb15⟩
  rw [HRd.out] at hd15
  obtain ⟨ha, hc, rfl⟩ := hw15.shape
  have HDh : Hid (lh.map FE.data = L ∧ lh.length = N) := ⟨hd15, HLen.out lh hd15⟩
  rw [HLen.out lh hd15] at hw15 ⊢
  have HH15 : Hid (FrRow x15 x14.heap.size (.slice ha N hc) lh) := hw15
  have HG15 : Hid (FrRow x15 x3.heap.size (.slice ga N gc) (mkFr 1 lg)) := HG14.out.stays hb15
  have HW15 : Hid (FrRow x15 x1.heap.size (.slice wa N cw) lw) := HW14.out.stays hb15
  have HB15 : Hid (Below w.heap.size w x15) := HB14.out.trans (hb15.mono HB14.out.size)
  have HSh : Hid (∀ e ∈ lh, e.n ≤ 1099511627776) := (HSmall.out _ _ _ _ hw15 hd15).1
  clear hw15 hd15 hb15 HG14 HW14 HB14 S14
  go_wp2_with fail
  refine (eqFrameS_same ha wa N hc cw _ _ lh lw x15 HH15.out HW15.out HDh.out.2 HDw.out.2 (by rw [HDh.out.1, HDw.out.1]) HSh.out (by omega)).mono ?_
  rintro e x16 ⟨rfl, hb16⟩
  have HG16 : Hid (FrRow x16 x3.heap.size (.slice ga N gc) (mkFr 1 lg)) := HG15.out.stays hb16
  have HB16 : Hid (Below w.heap.size w x16) := HB15.out.trans (hb16.mono HB15.out.size)
  clear hb16 HG15 HW15 HH15 HB15
  go_wp2_with fail
  refine (HHF.out x16 HG16.out).mono ?_
  rintro e x17 ⟨rfl, rfl⟩
  go_wp2_with fail
  go_ret
  exact ⟨rfl, HB16.out⟩

end Go.Proofs.Ytpjldfpipchmjao
