/- The law that Feed answers as the specification's: its walk. -/
import Derived.Test.YtckpacifimpkgaoDoorGaTo
import Derived.Test.YtckpacifimpkgaoDoorFrTo
import Derived.Test.YtckpacifimpkgaoDoorFrEq
import Derived.Test.YtckpacifimpkgaoDoorGaMark
import Derived.Test.YtckpacifimpkgaoDoorWalkB
import Derived.Test.YtckpacifimpkgaoDoorGaAns
import Derived.Test.YtckpacifimpkgaoDoorFeedIA
import Derived.Test.YtckpacifimpkgaoDoorFeedSD
import Derived.Deep.RegionHeld3
import Derived.Deep.RegionWith
import Derived.Deep.Cut
namespace Go.Proofs.YtckpacifimpkgaoDoor
open Go.RowKit
set_option linter.unusedVariables false

set_option maxRecDepth 10000 in
set_option maxHeartbeats 6400000 in
theorem feedWalk (s : Int) (en : Bool) (a0 : Option Addr) (n0 cap0 : Nat) (zs : List Int) (k f fs : Int) (b0 : Option Addr) (m0 capb0 : Nat) (ys : List Int) (w : World) (hl : n0 ≤ maxLen) (hl2 : m0 ≤ maxLen) (hs : Seg w a0 n0 zs) (hs2 : Seg w b0 m0 ys) (he : ErrT w) :
    Calls Tryd.prog 3 #[.agg #[.int .i64 s, .bool en, .slice a0 n0 cap0], .agg #[.int .i64 k, .int .i64 f, .int .i64 fs, .slice b0 m0 capb0]] w fun e w' => e = .returned (.bool true) ∧ Below w.heap.size w w' := by
  obtain ⟨S, EN, Z1, Z2, C, hR⟩ : ∃ S EN Z1 Z2 C, feedR s en zs k f fs ys = ((S, EN, Z1), Z2, C) := ⟨_, _, _, _, _, rfl⟩
  have HR : Hid (feedR s en zs k f fs ys = ((S, EN, Z1), Z2, C)) := hR
  have HLn : Hid (Z1.length ≤ n0 + m0 ∧ Z2.length ≤ n0 + m0) := by
    have h := feedR_len s en zs k f fs ys
    rw [hR, hs.1, hs2.1] at h
    exact h
  obtain ⟨L1, hL1⟩ : ∃ L1, Z1.length = L1 := ⟨_, rfl⟩
  obtain ⟨L2, hL2⟩ : ∃ L2, Z2.length = L2 := ⟨_, rfl⟩
  have HL1 : Hid (Z1.length = L1) := hL1
  have HL2 : Hid (Z2.length = L2) := hL2
  obtain ⟨W2, hW2⟩ : ∃ W2, (w.alloc (.cells #[.int .i64 s, .bool en, .slice a0 n0 cap0] 24)).alloc (.cells #[.int .i64 k, .int .i64 f, .int .i64 fs, .slice b0 m0 capb0] 26) = W2 := ⟨_, rfl⟩
  have HE : Hid ((w.alloc (.cells #[.int .i64 s, .bool en, .slice a0 n0 cap0] 24)).alloc (.cells #[.int .i64 k, .int .i64 f, .int .i64 fs, .slice b0 m0 capb0] 26) = W2) := hW2
  have HQ2 : Hid (∀ W, Below W2.heap.size W2 W → Box3 W w.heap.size 24 (.int .i64 s) (.bool en) (.slice a0 n0 cap0) ∧ Box4 W (w.heap.size + 1) 26 (.int .i64 k) (.int .i64 f) (.int .i64 fs) (.slice b0 m0 capb0) ∧ Below w.heap.size w W ∧ Seg W a0 n0 zs ∧ Seg W b0 m0 ys ∧ ErrT W) := fun W h => by
    have q1 : Box3 W2 w.heap.size 24 (.int .i64 s) (.bool en) (.slice a0 n0 cap0) := by rw [← hW2]; exact (Box3.new _ _ _ _ _).alloc _
    have q2 : Box4 W2 (w.heap.size + 1) 26 (.int .i64 k) (.int .i64 f) (.int .i64 fs) (.slice b0 m0 capb0) := by
      rw [← hW2]
      have := Box4.new (w.alloc (.cells #[.int .i64 s, .bool en, .slice a0 n0 cap0] 24)) 26 (.int .i64 k) (.int .i64 f) (.int .i64 fs) (.slice b0 m0 capb0)
      rwa [World.size_alloc] at this
    have q3 : Below w.heap.size w W2 := by rw [← hW2]; exact ((Below.refl _ _).alloc (Nat.le_refl _) _).alloc (by simp) _
    have hw : Below w.heap.size w W := q3.trans (h.mono q3.size)
    exact ⟨q1.stays h, q2.stays h, hw, hs.below hw, hs2.below hw, errT_below he hw⟩
  have HMk : Hid (∀ W, Box3 W w.heap.size 24 (.int .i64 s) (.bool en) (.slice a0 n0 cap0) → Box4 W (w.heap.size + 1) 26 (.int .i64 k) (.int .i64 f) (.int .i64 fs) (.slice b0 m0 capb0) → Below w.heap.size w W → Box3 W w.heap.size 24 (.int .i64 s) (.bool en) (.slice a0 n0 cap0) ∧ Box4 W (w.heap.size + 1) 26 (.int .i64 k) (.int .i64 f) (.int .i64 fs) (.slice b0 m0 capb0) ∧ Below w.heap.size w W ∧ Seg W a0 n0 zs ∧ Seg W b0 m0 ys ∧ ErrT W) := fun W h1 h2 hw => ⟨h1, h2, hw, hs.below hw, hs2.below hw, errT_below he hw⟩
  clear hs hs2 he hR hL1 hL2 hW2
  go_enter Tryd.func3, Tryd.ntmps3
  go_upto_region 1 with fail
  rw [HE.out]
  clear HE
  obtain ⟨c0, c1, c2⟩ := (HQ2.out _ (Below.refl _ _)).1.cells
  go_wp2_with fail
  refine (szGather_any s en a0 n0 cap0 1048576 _ (by omega) (by omega) hl).mono ?_
  rintro e x0 ⟨rfl, hb0⟩
  have HB0 : Hid (Below W2.heap.size W2 x0) := hb0
  clear hb0 c0 c1 c2
  by_cases hbig : (1048576 : Int) - n0 < 0
  · rw [if_pos hbig]
    go_wp2_with fail
    go_ret
    exact ⟨rfl, (HQ2.out _ HB0.out).2.2.1⟩
  rw [if_neg hbig]
  have hn : n0 ≤ 1048576 := by omega
  obtain ⟨left, hleft⟩ : ∃ left, (1048576 : Int) - n0 = left := ⟨_, rfl⟩
  have HLeft : Hid (left = (1048576 : Int) - n0) := hleft.symm
  rw [hleft] at hbig ⊢
  clear hleft
  have hld : decide (left < 0) = false := by simpa using hbig
  obtain ⟨d0, d1, d2, d3⟩ := (HQ2.out _ HB0.out).2.1.cells
  go_wp2_with fail
  refine (szFrame_any k f fs b0 m0 capb0 left _ (by omega) (by have := HLeft.out; omega) hl2).mono ?_
  rintro e x1 ⟨rfl, hb1⟩
  have HB1 : Hid (Below W2.heap.size W2 x1) := HB0.out.trans (hb1.mono HB0.out.size)
  clear hb1 d0 d1 d2 d3 HB0 hld
  by_cases hbig2 : left - m0 < 0
  · rw [if_pos hbig2]
    go_wp2_with fail
    go_ret
    exact ⟨rfl, (HQ2.out _ HB1.out).2.2.1⟩
  rw [if_neg hbig2]
  have hm : m0 ≤ 1048576 := by have := HLeft.out; omega
  have hsz : L1 ≤ 2097152 ∧ L2 ≤ 2097152 := by have h1 := HLn.out; have h2 := HL1.out; have h3 := HL2.out; omega
  obtain ⟨hz1, hz2⟩ := hsz
  obtain ⟨l2, hl2'⟩ : ∃ l2, left - (m0 : Int) = l2 := ⟨_, rfl⟩
  rw [hl2'] at hbig2 ⊢
  clear hl2' hbig HLeft HLn
  have HQ : Hid (∀ W, Below x1.heap.size x1 W → Box3 W w.heap.size 24 (.int .i64 s) (.bool en) (.slice a0 n0 cap0) ∧ Box4 W (w.heap.size + 1) 26 (.int .i64 k) (.int .i64 f) (.int .i64 fs) (.slice b0 m0 capb0) ∧ Below w.heap.size w W ∧ Seg W a0 n0 zs ∧ Seg W b0 m0 ys ∧ ErrT W) := fun W h => HQ2.out W (HB1.out.trans (h.mono HB1.out.size))
  have HS7 : Hid (∀ W, Below x1.heap.size x1 W → (fun W => W.cell? ⟨w.heap.size, 0, none⟩ = some (.int .i64 s) ∧ W.cell? ⟨w.heap.size, 1, none⟩ = some (.bool en) ∧ W.cell? ⟨w.heap.size, 2, none⟩ = some (.slice a0 n0 cap0) ∧ W.cell? ⟨w.heap.size + 1, 0, none⟩ = some (.int .i64 k) ∧ W.cell? ⟨w.heap.size + 1, 1, none⟩ = some (.int .i64 f) ∧ W.cell? ⟨w.heap.size + 1, 2, none⟩ = some (.int .i64 fs) ∧ W.cell? ⟨w.heap.size + 1, 3, none⟩ = some (.slice b0 m0 capb0)) W) := fun W h => by
    obtain ⟨h1, h2, _⟩ := HQ.out W h
    obtain ⟨e0, e1, e2⟩ := h1.cells
    obtain ⟨e3, e4, e5, e6⟩ := h2.cells
    exact ⟨e0, e1, e2, e3, e4, e5, e6⟩
  clear HB1
  go_upto_region 8 with fail
  go_cut [6, 7, 8] from 20 (fun v6 v7 v8 W => ∃ bw wa cw wb cwb, v6 = .pointer (some ⟨bw, 0, none⟩) ∧ v7 = .slice wb L2 cwb ∧ v8 = .int .i64 C ∧ Hid (AnsAt W x1.heap.size bw S EN wa L1 cw Z1 wb L2 cwb Z2) ∧ Hid (Below x1.heap.size x1 W))
  case first =>
    clear HQ2
    refine wp_region_noPanic ?_
    have hXs : x1.heap.size ≤ x1.heap.size := Nat.le_refl _
    refine wp_region_held_drew (S := fun W => W.cell? ⟨w.heap.size, 0, none⟩ = some (.int .i64 s) ∧ W.cell? ⟨w.heap.size, 1, none⟩ = some (.bool en) ∧ W.cell? ⟨w.heap.size, 2, none⟩ = some (.slice a0 n0 cap0) ∧ W.cell? ⟨w.heap.size + 1, 0, none⟩ = some (.int .i64 k) ∧ W.cell? ⟨w.heap.size + 1, 1, none⟩ = some (.int .i64 f) ∧ W.cell? ⟨w.heap.size + 1, 2, none⟩ = some (.int .i64 fs) ∧ W.cell? ⟨w.heap.size + 1, 3, none⟩ = some (.slice b0 m0 capb0)) (by kernel_rfl) (HS7.out _ ((Below.refl x1.heap.size x1).drew)) (fun hHeld => ?_)
    refine wpAnyH_take (i := 0) (oi := ({ dst := some 31, op := Op.load 24 (Operand.tmp 2), type := 24, pos := "exact.go:3499", after := #[], guard := none } : Oper)) (v := ?tv51) rfl (by kernel_rfl) (by kernel_rfl) (by kernel_rfl) (fun _ _ _ h => h) (Or.inl ⟨by rfl, ?ty51⟩) (by assumption) ?tr51
    case ty51 => (intro w hSw; (try dsimp only at hSw); (try obtain ⟨s0, s1, s2, s3, s4, s5, s6⟩ := hSw); go_simp <;> with_reducible rfl)
    simp only [Act.put, List.setIfInBounds_toArray, List.set_cons_zero, List.set_cons_succ]
    refine wpAnyH_take (i := 2) (oi := ({ dst := some 33, op := Op.load 26 (Operand.tmp 3), type := 26, pos := "exact.go:3499", after := #[], guard := none } : Oper)) (v := ?tv52) rfl (by kernel_rfl) (by kernel_rfl) (by kernel_rfl) (fun _ _ _ h => h) (Or.inl ⟨by rfl, ?ty52⟩) (by assumption) ?tr52
    case ty52 => (intro w hSw; (try dsimp only at hSw); (try obtain ⟨s0, s1, s2, s3, s4, s5, s6⟩ := hSw); go_simp <;> with_reducible rfl)
    simp only [Act.put, List.setIfInBounds_toArray, List.set_cons_zero, List.set_cons_succ]
    refine wpAnyH_ready (rs := [1, 9]) (by kernel_rfl) (by simp) ?_
    refine (AllReadyH.cons (o := ({ dst := some 32, op := Op.call { callee := Callee.value (Operand.func 7), args := #[Operand.tmp 31], argTypes := #[24] }, type := 29, pos := "exact.go:3499", after := #[{ on := 0, ground := Ground.data }], guard := none } : Oper)) rfl (fun K hK => ?_) (AllReadyH.cons (o := ({ dst := some 6, op := Op.alloc 29, type := 0, pos := "exact.go:3499", after := #[], guard := none } : Oper)) rfl (fun K hK => ?_) AllReadyH.nil))
    · go_simp
      refine (toGather_any s en a0 n0 cap0 zs _ (HQ.out _ (Below.refl x1.heap.size x1).drew).2.2.2.1 hn).mono ?_
      rintro e Ya ⟨gg, rfl, hgg, ogg, hbg⟩
      have hbYa : Below x1.heap.size x1 Ya := ((Below.refl x1.heap.size x1).drew).trans (hbg.mono ((Below.refl x1.heap.size x1).drew).size)
      go_wp2_with fail
      refine hK.out _ _ (HS7.out _ hbYa) (fun hHeld => ?_)
      clear hK K
      try simp only [Act.put, List.setIfInBounds_toArray, List.set_cons_zero, List.set_cons_succ]
      refine wpAnyH_ready (rs := [3, 9]) (by kernel_rfl) (by simp) ?_
      refine (AllReadyH.cons (o := ({ dst := some 34, op := Op.call { callee := Callee.value (Operand.func 8), args := #[Operand.tmp 33], argTypes := #[26] }, type := 33, pos := "exact.go:3499", after := #[{ on := 2, ground := Ground.data }, { on := 1, ground := Ground.chain }], guard := none } : Oper)) rfl (fun K hK => ?_) (AllReadyH.cons (o := ({ dst := some 6, op := Op.alloc 29, type := 0, pos := "exact.go:3499", after := #[], guard := none } : Oper)) rfl (fun K hK => ?_) AllReadyH.nil))
      · go_simp
        refine (toFrame_any k f fs b0 m0 capb0 ys _ (HQ.out _ hbYa).2.2.2.2.1 hm).mono ?_
        rintro e Yb ⟨gf, rfl, hgf, ogf, hbf⟩
        have hbYb : Below x1.heap.size x1 Yb := (hbYa).trans (hbf.mono (hbYa).size)
        go_wp2_with fail
        refine hK.out _ _ (HS7.out _ hbYb) (fun hHeld => ?_)
        clear hK K
        try simp only [Act.put, List.setIfInBounds_toArray, List.set_cons_zero, List.set_cons_succ]
        refine wpAnyH_ready (rs := [4, 9]) (by kernel_rfl) (by simp) ?_
        refine (AllReadyH.cons (o := ({ dst := some 35, op := Op.call { callee := Callee.value (Operand.func 6), args := #[Operand.tmp 32, Operand.tmp 34], argTypes := #[29, 33] }, type := 30, pos := "exact.go:3499", after := #[{ on := 1, ground := Ground.data }, { on := 3, ground := Ground.data }, { on := 3, ground := Ground.chain }], guard := none } : Oper)) rfl (fun K hK => ?_) (AllReadyH.cons (o := ({ dst := some 6, op := Op.alloc 29, type := 0, pos := "exact.go:3499", after := #[], guard := none } : Oper)) rfl (fun K hK => ?_) AllReadyH.nil))
        · go_simp
          refine (specFeed_any s en (some ⟨gg, 0, none⟩) n0 n0 zs k f fs gf 0 m0 m0 ys _ (ogg.below hbf).seg (ogf).seg (Nat.le_refl _) hn hm ((S, EN, Z1), Z2, C) HR.out L1 L2 HL1.out HL2.out).mono ?_
          rintro e Yc ⟨wa, cw, wb, cwb, rfl, ow1, ow2, hpt, hbw⟩
          have hbYc : Below x1.heap.size x1 Yc := (hbYb).trans (hbw.mono (hbYb).size)
          go_wp2_with fail
          refine hK.out _ _ (HS7.out _ hbYc) (fun hHeld => ?_)
          clear hK K
          try simp only [Act.put, List.setIfInBounds_toArray, List.set_cons_zero, List.set_cons_succ]
          refine wpAnyH_take (i := 5) (oi := ({ dst := some 30, op := Op.move (Operand.tmp 35), type := 30, pos := "exact.go:3499", after := #[{ on := 4, ground := Ground.data }], guard := none } : Oper)) (v := ?tv45) rfl (by kernel_rfl) (by kernel_rfl) (by kernel_rfl) (fun _ _ _ h => h) (Or.inl ⟨by rfl, ?ty45⟩) (by assumption) ?tr45
          case ty45 => (intro w hSw; (try dsimp only at hSw); (try obtain ⟨s0, s1, s2, s3, s4, s5, s6⟩ := hSw); go_simp <;> with_reducible rfl)
          simp only [Act.put, List.setIfInBounds_toArray, List.set_cons_zero, List.set_cons_succ]
          refine wpAnyH_take (i := 6) (oi := ({ dst := some 36, op := Op.extract (Operand.tmp 30) 0, type := 29, pos := "exact.go:3499", after := #[{ on := 5, ground := Ground.data }], guard := none } : Oper)) (v := ?tv46) rfl (by kernel_rfl) (by kernel_rfl) (by kernel_rfl) (fun _ _ _ h => h) (Or.inl ⟨by rfl, ?ty46⟩) (by assumption) ?tr46
          case ty46 => (intro w hSw; (try dsimp only at hSw); (try obtain ⟨s0, s1, s2, s3, s4, s5, s6⟩ := hSw); go_simp <;> with_reducible rfl)
          simp only [Act.put, List.setIfInBounds_toArray, List.set_cons_zero, List.set_cons_succ]
          refine wpAnyH_take (i := 7) (oi := ({ dst := some 37, op := Op.extract (Operand.tmp 30) 1, type := 22, pos := "exact.go:3499", after := #[{ on := 5, ground := Ground.data }, { on := 10, ground := Ground.gcOnly Departure.lateStores }], guard := none } : Oper)) (v := ?tv47) rfl (by kernel_rfl) (by kernel_rfl) (by kernel_rfl) (fun _ _ _ h => h) (Or.inl ⟨by rfl, ?ty47⟩) (by assumption) ?tr47
          case ty47 => (intro w hSw; (try dsimp only at hSw); (try obtain ⟨s0, s1, s2, s3, s4, s5, s6⟩ := hSw); go_simp <;> with_reducible rfl)
          simp only [Act.put, List.setIfInBounds_toArray, List.set_cons_zero, List.set_cons_succ]
          refine wpAnyH_take (i := 8) (oi := ({ dst := some 38, op := Op.extract (Operand.tmp 30) 2, type := 3, pos := "exact.go:3499", after := #[{ on := 5, ground := Ground.data }, { on := 11, ground := Ground.gcOnly Departure.lateStores }], guard := none } : Oper)) (v := ?tv48) rfl (by kernel_rfl) (by kernel_rfl) (by kernel_rfl) (fun _ _ _ h => h) (Or.inl ⟨by rfl, ?ty48⟩) (by assumption) ?tr48
          case ty48 => (intro w hSw; (try dsimp only at hSw); (try obtain ⟨s0, s1, s2, s3, s4, s5, s6⟩ := hSw); go_simp <;> with_reducible rfl)
          simp only [Act.put, List.setIfInBounds_toArray, List.set_cons_zero, List.set_cons_succ]
          refine wpAnyH_ready (rs := [9]) (by kernel_rfl) (by simp) ?_
          refine (AllReadyH.cons (o := ({ dst := some 6, op := Op.alloc 29, type := 0, pos := "exact.go:3499", after := #[], guard := none } : Oper)) rfl (fun K hK => ?_) AllReadyH.nil)
          have hbA : Below x1.heap.size x1 (Yc.alloc (.cells #[.int .i64 0, .bool false, .slice none 0 0] 29)) := hbYc.alloc hbYc.size _
          go_simp
          refine hK.out _ _ (HS7.out _ hbA) (fun hHeld => ?_)
          clear hK K
          try simp only [Act.put, List.setIfInBounds_toArray, List.set_cons_zero, List.set_cons_succ]
          have hy1 := hbg.size
          have hy2 := hbf.size
          have hy3 := hbw.size
          have hy0 : x1.drew.heap.size = x1.heap.size := rfl
          refine wpAnyH_ready (rs := [10]) (by kernel_rfl) (by simp) ?_
          refine (AllReadyH.cons (o := ({ dst := none, op := Op.store 29 (Operand.tmp 6) (Operand.tmp 36), type := 0, pos := "exact.go:3499", after := #[{ on := 9, ground := Ground.data }, { on := 6, ground := Ground.data }, { on := 4, ground := Ground.chain }, { on := 0, ground := Ground.phase }, { on := 1, ground := Ground.phase }, { on := 2, ground := Ground.phase }, { on := 3, ground := Ground.phase }, { on := 4, ground := Ground.phase }, { on := 5, ground := Ground.phase }, { on := 6, ground := Ground.phase }, { on := 7, ground := Ground.textOnly Departure.lateStores }, { on := 8, ground := Ground.textOnly Departure.lateStores }, { on := 9, ground := Ground.phase }], guard := none } : Oper)) rfl (fun K hK => ?_) AllReadyH.nil)
          have hbS : Below x1.heap.size x1 (Yc.alloc (.cells #[.int .i64 S, .bool EN, .slice wa L1 cw] 29)) := hbYc.alloc hbYc.size _
          go_simp
          refine hK.out _ _ (HS7.out _ hbS) (fun hHeld => ?_)
          clear hK K
          try simp only [Act.put, List.setIfInBounds_toArray, List.set_cons_zero, List.set_cons_succ]
          refine wpAnyH_take (i := 11) (oi := ({ dst := some 7, op := Op.assign (Operand.tmp 37), type := 22, pos := "exact.go:3499", after := #[{ on := 7, ground := Ground.data }, { on := 10, ground := Ground.chain }, { on := 0, ground := Ground.phase }, { on := 1, ground := Ground.phase }, { on := 2, ground := Ground.phase }, { on := 3, ground := Ground.phase }, { on := 4, ground := Ground.phase }, { on := 5, ground := Ground.phase }, { on := 6, ground := Ground.phase }, { on := 7, ground := Ground.phase }, { on := 8, ground := Ground.textOnly Departure.lateStores }, { on := 9, ground := Ground.phase }, { on := 10, ground := Ground.phase }], guard := none } : Oper)) (v := ?tv49) rfl (by kernel_rfl) (by kernel_rfl) (by kernel_rfl) (fun _ _ _ h => h) (Or.inl ⟨by rfl, ?ty49⟩) (by assumption) ?tr49
          case ty49 => (intro w hSw; (try dsimp only at hSw); (try obtain ⟨s0, s1, s2, s3, s4, s5, s6⟩ := hSw); go_simp <;> with_reducible rfl)
          simp only [Act.put, List.setIfInBounds_toArray, List.set_cons_zero, List.set_cons_succ]
          refine wpAnyH_take (i := 12) (oi := ({ dst := some 8, op := Op.assign (Operand.tmp 38), type := 3, pos := "exact.go:3499", after := #[{ on := 8, ground := Ground.data }, { on := 11, ground := Ground.chain }, { on := 0, ground := Ground.phase }, { on := 1, ground := Ground.phase }, { on := 2, ground := Ground.phase }, { on := 3, ground := Ground.phase }, { on := 4, ground := Ground.phase }, { on := 5, ground := Ground.phase }, { on := 6, ground := Ground.phase }, { on := 7, ground := Ground.phase }, { on := 8, ground := Ground.phase }, { on := 9, ground := Ground.phase }, { on := 10, ground := Ground.phase }, { on := 11, ground := Ground.phase }], guard := none } : Oper)) (v := ?tv50) rfl (by kernel_rfl) (by kernel_rfl) (by kernel_rfl) (fun _ _ _ h => h) (Or.inl ⟨by rfl, ?ty50⟩) (by assumption) ?tr50
          case ty50 => (intro w hSw; (try dsimp only at hSw); (try obtain ⟨s0, s1, s2, s3, s4, s5, s6⟩ := hSw); go_simp <;> with_reducible rfl)
          simp only [Act.put, List.setIfInBounds_toArray, List.set_cons_zero, List.set_cons_succ]
          refine wpAnyH_done (by kernel_rfl) ?_ _
          refine NoPanic.normal ?_
          clear hHeld
          go_wp2_with fail
          go_meet
          exact ⟨Yc.heap.size, wa, cw, wb, cwb, rfl, rfl, rfl, AnsAt.new ow1 ow2 hpt (by omega) (by omega), hbS⟩
        · have hbA : Below x1.heap.size x1 (Yb.alloc (.cells #[.int .i64 0, .bool false, .slice none 0 0] 29)) := hbYb.alloc hbYb.size _
          go_simp
          refine hK.out _ _ (HS7.out _ hbA) (fun hHeld => ?_)
          clear hK K
          try simp only [Act.put, List.setIfInBounds_toArray, List.set_cons_zero, List.set_cons_succ]
          refine wpAnyH_ready (rs := [4]) (by kernel_rfl) (by simp) ?_
          refine (AllReadyH.cons (o := ({ dst := some 35, op := Op.call { callee := Callee.value (Operand.func 6), args := #[Operand.tmp 32, Operand.tmp 34], argTypes := #[29, 33] }, type := 30, pos := "exact.go:3499", after := #[{ on := 1, ground := Ground.data }, { on := 3, ground := Ground.data }, { on := 3, ground := Ground.chain }], guard := none } : Oper)) rfl (fun K hK => ?_) AllReadyH.nil)
          go_simp
          refine (specFeed_any s en (some ⟨gg, 0, none⟩) n0 n0 zs k f fs gf 0 m0 m0 ys _ ((ogg.below hbf).below ((Below.refl _ _).alloc (Nat.le_refl _) _)).seg (ogf.below ((Below.refl _ _).alloc (Nat.le_refl _) _)).seg (Nat.le_refl _) hn hm ((S, EN, Z1), Z2, C) HR.out L1 L2 HL1.out HL2.out).mono ?_
          rintro e Yc ⟨wa, cw, wb, cwb, rfl, ow1, ow2, hpt, hbw⟩
          have hbYc : Below x1.heap.size x1 Yc := (hbA).trans (hbw.mono (hbA).size)
          go_wp2_with fail
          refine hK.out _ _ (HS7.out _ hbYc) (fun hHeld => ?_)
          clear hK K
          try simp only [Act.put, List.setIfInBounds_toArray, List.set_cons_zero, List.set_cons_succ]
          refine wpAnyH_take (i := 5) (oi := ({ dst := some 30, op := Op.move (Operand.tmp 35), type := 30, pos := "exact.go:3499", after := #[{ on := 4, ground := Ground.data }], guard := none } : Oper)) (v := ?tv39) rfl (by kernel_rfl) (by kernel_rfl) (by kernel_rfl) (fun _ _ _ h => h) (Or.inl ⟨by rfl, ?ty39⟩) (by assumption) ?tr39
          case ty39 => (intro w hSw; (try dsimp only at hSw); (try obtain ⟨s0, s1, s2, s3, s4, s5, s6⟩ := hSw); go_simp <;> with_reducible rfl)
          simp only [Act.put, List.setIfInBounds_toArray, List.set_cons_zero, List.set_cons_succ]
          refine wpAnyH_take (i := 6) (oi := ({ dst := some 36, op := Op.extract (Operand.tmp 30) 0, type := 29, pos := "exact.go:3499", after := #[{ on := 5, ground := Ground.data }], guard := none } : Oper)) (v := ?tv40) rfl (by kernel_rfl) (by kernel_rfl) (by kernel_rfl) (fun _ _ _ h => h) (Or.inl ⟨by rfl, ?ty40⟩) (by assumption) ?tr40
          case ty40 => (intro w hSw; (try dsimp only at hSw); (try obtain ⟨s0, s1, s2, s3, s4, s5, s6⟩ := hSw); go_simp <;> with_reducible rfl)
          simp only [Act.put, List.setIfInBounds_toArray, List.set_cons_zero, List.set_cons_succ]
          refine wpAnyH_take (i := 7) (oi := ({ dst := some 37, op := Op.extract (Operand.tmp 30) 1, type := 22, pos := "exact.go:3499", after := #[{ on := 5, ground := Ground.data }, { on := 10, ground := Ground.gcOnly Departure.lateStores }], guard := none } : Oper)) (v := ?tv41) rfl (by kernel_rfl) (by kernel_rfl) (by kernel_rfl) (fun _ _ _ h => h) (Or.inl ⟨by rfl, ?ty41⟩) (by assumption) ?tr41
          case ty41 => (intro w hSw; (try dsimp only at hSw); (try obtain ⟨s0, s1, s2, s3, s4, s5, s6⟩ := hSw); go_simp <;> with_reducible rfl)
          simp only [Act.put, List.setIfInBounds_toArray, List.set_cons_zero, List.set_cons_succ]
          refine wpAnyH_take (i := 8) (oi := ({ dst := some 38, op := Op.extract (Operand.tmp 30) 2, type := 3, pos := "exact.go:3499", after := #[{ on := 5, ground := Ground.data }, { on := 11, ground := Ground.gcOnly Departure.lateStores }], guard := none } : Oper)) (v := ?tv42) rfl (by kernel_rfl) (by kernel_rfl) (by kernel_rfl) (fun _ _ _ h => h) (Or.inl ⟨by rfl, ?ty42⟩) (by assumption) ?tr42
          case ty42 => (intro w hSw; (try dsimp only at hSw); (try obtain ⟨s0, s1, s2, s3, s4, s5, s6⟩ := hSw); go_simp <;> with_reducible rfl)
          simp only [Act.put, List.setIfInBounds_toArray, List.set_cons_zero, List.set_cons_succ]
          have hy1 := hbg.size
          have hy2 := hbf.size
          have hy0 : x1.drew.heap.size = x1.heap.size := rfl
          have bx : Box3 Yc Yb.heap.size 29 (.int .i64 0) (.bool false) (.slice none 0 0) := (Box3.new Yb 29 (.int .i64 0) (.bool false) (.slice none 0 0)).stays hbw
          have hsA : (Yb.alloc (.cells #[.int .i64 0, .bool false, .slice none 0 0] 29)).heap.size = Yb.heap.size + 1 := World.size_alloc _ _
          refine wpAnyH_ready (rs := [10]) (by kernel_rfl) (by simp) ?_
          refine (AllReadyH.cons (o := ({ dst := none, op := Op.store 29 (Operand.tmp 6) (Operand.tmp 36), type := 0, pos := "exact.go:3499", after := #[{ on := 9, ground := Ground.data }, { on := 6, ground := Ground.data }, { on := 4, ground := Ground.chain }, { on := 0, ground := Ground.phase }, { on := 1, ground := Ground.phase }, { on := 2, ground := Ground.phase }, { on := 3, ground := Ground.phase }, { on := 4, ground := Ground.phase }, { on := 5, ground := Ground.phase }, { on := 6, ground := Ground.phase }, { on := 7, ground := Ground.textOnly Departure.lateStores }, { on := 8, ground := Ground.textOnly Departure.lateStores }, { on := 9, ground := Ground.phase }], guard := none } : Oper)) rfl (fun K hK => ?_) AllReadyH.nil)
          obtain ⟨g0, g1, g2⟩ := (bx).cells
          have f0 := (bx).frozen 0
          have f1 := (bx).frozen 1
          have f2 := (bx).frozen 2
          have hbS : Below x1.heap.size x1 (((Yc.setCell ⟨Yb.heap.size, 0, none⟩ (.int .i64 S)).setCell ⟨Yb.heap.size, 1, none⟩ (.bool EN)).setCell ⟨Yb.heap.size, 2, none⟩ (.slice wa L1 cw)) := ((hbYc.setCell (p := ⟨Yb.heap.size, 0, none⟩) (by show x1.heap.size ≤ Yb.heap.size; omega) _).setCell (p := ⟨Yb.heap.size, 1, none⟩) (by show x1.heap.size ≤ Yb.heap.size; omega) _).setCell (p := ⟨Yb.heap.size, 2, none⟩) (by show x1.heap.size ≤ Yb.heap.size; omega) _
          go_simp
          refine hK.out _ _ (HS7.out _ hbS) (fun hHeld => ?_)
          clear hK K
          try simp only [Act.put, List.setIfInBounds_toArray, List.set_cons_zero, List.set_cons_succ]
          refine wpAnyH_take (i := 11) (oi := ({ dst := some 7, op := Op.assign (Operand.tmp 37), type := 22, pos := "exact.go:3499", after := #[{ on := 7, ground := Ground.data }, { on := 10, ground := Ground.chain }, { on := 0, ground := Ground.phase }, { on := 1, ground := Ground.phase }, { on := 2, ground := Ground.phase }, { on := 3, ground := Ground.phase }, { on := 4, ground := Ground.phase }, { on := 5, ground := Ground.phase }, { on := 6, ground := Ground.phase }, { on := 7, ground := Ground.phase }, { on := 8, ground := Ground.textOnly Departure.lateStores }, { on := 9, ground := Ground.phase }, { on := 10, ground := Ground.phase }], guard := none } : Oper)) (v := ?tv43) rfl (by kernel_rfl) (by kernel_rfl) (by kernel_rfl) (fun _ _ _ h => h) (Or.inl ⟨by rfl, ?ty43⟩) (by assumption) ?tr43
          case ty43 => (intro w hSw; (try dsimp only at hSw); (try obtain ⟨s0, s1, s2, s3, s4, s5, s6⟩ := hSw); go_simp <;> with_reducible rfl)
          simp only [Act.put, List.setIfInBounds_toArray, List.set_cons_zero, List.set_cons_succ]
          refine wpAnyH_take (i := 12) (oi := ({ dst := some 8, op := Op.assign (Operand.tmp 38), type := 3, pos := "exact.go:3499", after := #[{ on := 8, ground := Ground.data }, { on := 11, ground := Ground.chain }, { on := 0, ground := Ground.phase }, { on := 1, ground := Ground.phase }, { on := 2, ground := Ground.phase }, { on := 3, ground := Ground.phase }, { on := 4, ground := Ground.phase }, { on := 5, ground := Ground.phase }, { on := 6, ground := Ground.phase }, { on := 7, ground := Ground.phase }, { on := 8, ground := Ground.phase }, { on := 9, ground := Ground.phase }, { on := 10, ground := Ground.phase }, { on := 11, ground := Ground.phase }], guard := none } : Oper)) (v := ?tv44) rfl (by kernel_rfl) (by kernel_rfl) (by kernel_rfl) (fun _ _ _ h => h) (Or.inl ⟨by rfl, ?ty44⟩) (by assumption) ?tr44
          case ty44 => (intro w hSw; (try dsimp only at hSw); (try obtain ⟨s0, s1, s2, s3, s4, s5, s6⟩ := hSw); go_simp <;> with_reducible rfl)
          simp only [Act.put, List.setIfInBounds_toArray, List.set_cons_zero, List.set_cons_succ]
          refine wpAnyH_done (by kernel_rfl) ?_ _
          refine NoPanic.normal ?_
          clear hHeld
          go_wp2_with fail
          go_meet
          exact ⟨Yb.heap.size, wa, cw, wb, cwb, rfl, rfl, rfl, AnsAt.store bx ow1 ow2 hpt (by omega) (by omega), hbS⟩
      · have hbA : Below x1.heap.size x1 (Ya.alloc (.cells #[.int .i64 0, .bool false, .slice none 0 0] 29)) := hbYa.alloc hbYa.size _
        go_simp
        refine hK.out _ _ (HS7.out _ hbA) (fun hHeld => ?_)
        clear hK K
        try simp only [Act.put, List.setIfInBounds_toArray, List.set_cons_zero, List.set_cons_succ]
        refine wpAnyH_ready (rs := [3]) (by kernel_rfl) (by simp) ?_
        refine (AllReadyH.cons (o := ({ dst := some 34, op := Op.call { callee := Callee.value (Operand.func 8), args := #[Operand.tmp 33], argTypes := #[26] }, type := 33, pos := "exact.go:3499", after := #[{ on := 2, ground := Ground.data }, { on := 1, ground := Ground.chain }], guard := none } : Oper)) rfl (fun K hK => ?_) AllReadyH.nil)
        go_simp
        refine (toFrame_any k f fs b0 m0 capb0 ys _ (HQ.out _ hbA).2.2.2.2.1 hm).mono ?_
        rintro e Yb ⟨gf, rfl, hgf, ogf, hbf⟩
        have hbYb : Below x1.heap.size x1 Yb := (hbA).trans (hbf.mono (hbA).size)
        go_wp2_with fail
        refine hK.out _ _ (HS7.out _ hbYb) (fun hHeld => ?_)
        clear hK K
        try simp only [Act.put, List.setIfInBounds_toArray, List.set_cons_zero, List.set_cons_succ]
        refine wpAnyH_ready (rs := [4]) (by kernel_rfl) (by simp) ?_
        refine (AllReadyH.cons (o := ({ dst := some 35, op := Op.call { callee := Callee.value (Operand.func 6), args := #[Operand.tmp 32, Operand.tmp 34], argTypes := #[29, 33] }, type := 30, pos := "exact.go:3499", after := #[{ on := 1, ground := Ground.data }, { on := 3, ground := Ground.data }, { on := 3, ground := Ground.chain }], guard := none } : Oper)) rfl (fun K hK => ?_) AllReadyH.nil)
        go_simp
        refine (specFeed_any s en (some ⟨gg, 0, none⟩) n0 n0 zs k f fs gf 0 m0 m0 ys _ ((ogg.below ((Below.refl _ _).alloc (Nat.le_refl _) _)).below hbf).seg (ogf).seg (Nat.le_refl _) hn hm ((S, EN, Z1), Z2, C) HR.out L1 L2 HL1.out HL2.out).mono ?_
        rintro e Yc ⟨wa, cw, wb, cwb, rfl, ow1, ow2, hpt, hbw⟩
        have hbYc : Below x1.heap.size x1 Yc := (hbYb).trans (hbw.mono (hbYb).size)
        go_wp2_with fail
        refine hK.out _ _ (HS7.out _ hbYc) (fun hHeld => ?_)
        clear hK K
        try simp only [Act.put, List.setIfInBounds_toArray, List.set_cons_zero, List.set_cons_succ]
        refine wpAnyH_take (i := 5) (oi := ({ dst := some 30, op := Op.move (Operand.tmp 35), type := 30, pos := "exact.go:3499", after := #[{ on := 4, ground := Ground.data }], guard := none } : Oper)) (v := ?tv33) rfl (by kernel_rfl) (by kernel_rfl) (by kernel_rfl) (fun _ _ _ h => h) (Or.inl ⟨by rfl, ?ty33⟩) (by assumption) ?tr33
        case ty33 => (intro w hSw; (try dsimp only at hSw); (try obtain ⟨s0, s1, s2, s3, s4, s5, s6⟩ := hSw); go_simp <;> with_reducible rfl)
        simp only [Act.put, List.setIfInBounds_toArray, List.set_cons_zero, List.set_cons_succ]
        refine wpAnyH_take (i := 6) (oi := ({ dst := some 36, op := Op.extract (Operand.tmp 30) 0, type := 29, pos := "exact.go:3499", after := #[{ on := 5, ground := Ground.data }], guard := none } : Oper)) (v := ?tv34) rfl (by kernel_rfl) (by kernel_rfl) (by kernel_rfl) (fun _ _ _ h => h) (Or.inl ⟨by rfl, ?ty34⟩) (by assumption) ?tr34
        case ty34 => (intro w hSw; (try dsimp only at hSw); (try obtain ⟨s0, s1, s2, s3, s4, s5, s6⟩ := hSw); go_simp <;> with_reducible rfl)
        simp only [Act.put, List.setIfInBounds_toArray, List.set_cons_zero, List.set_cons_succ]
        refine wpAnyH_take (i := 7) (oi := ({ dst := some 37, op := Op.extract (Operand.tmp 30) 1, type := 22, pos := "exact.go:3499", after := #[{ on := 5, ground := Ground.data }, { on := 10, ground := Ground.gcOnly Departure.lateStores }], guard := none } : Oper)) (v := ?tv35) rfl (by kernel_rfl) (by kernel_rfl) (by kernel_rfl) (fun _ _ _ h => h) (Or.inl ⟨by rfl, ?ty35⟩) (by assumption) ?tr35
        case ty35 => (intro w hSw; (try dsimp only at hSw); (try obtain ⟨s0, s1, s2, s3, s4, s5, s6⟩ := hSw); go_simp <;> with_reducible rfl)
        simp only [Act.put, List.setIfInBounds_toArray, List.set_cons_zero, List.set_cons_succ]
        refine wpAnyH_take (i := 8) (oi := ({ dst := some 38, op := Op.extract (Operand.tmp 30) 2, type := 3, pos := "exact.go:3499", after := #[{ on := 5, ground := Ground.data }, { on := 11, ground := Ground.gcOnly Departure.lateStores }], guard := none } : Oper)) (v := ?tv36) rfl (by kernel_rfl) (by kernel_rfl) (by kernel_rfl) (fun _ _ _ h => h) (Or.inl ⟨by rfl, ?ty36⟩) (by assumption) ?tr36
        case ty36 => (intro w hSw; (try dsimp only at hSw); (try obtain ⟨s0, s1, s2, s3, s4, s5, s6⟩ := hSw); go_simp <;> with_reducible rfl)
        simp only [Act.put, List.setIfInBounds_toArray, List.set_cons_zero, List.set_cons_succ]
        have hy1 := hbg.size
        have hy0 : x1.drew.heap.size = x1.heap.size := rfl
        have bx : Box3 Yc Ya.heap.size 29 (.int .i64 0) (.bool false) (.slice none 0 0) := ((Box3.new Ya 29 (.int .i64 0) (.bool false) (.slice none 0 0)).stays hbf).stays hbw
        have hsA : (Ya.alloc (.cells #[.int .i64 0, .bool false, .slice none 0 0] 29)).heap.size = Ya.heap.size + 1 := World.size_alloc _ _
        refine wpAnyH_ready (rs := [10]) (by kernel_rfl) (by simp) ?_
        refine (AllReadyH.cons (o := ({ dst := none, op := Op.store 29 (Operand.tmp 6) (Operand.tmp 36), type := 0, pos := "exact.go:3499", after := #[{ on := 9, ground := Ground.data }, { on := 6, ground := Ground.data }, { on := 4, ground := Ground.chain }, { on := 0, ground := Ground.phase }, { on := 1, ground := Ground.phase }, { on := 2, ground := Ground.phase }, { on := 3, ground := Ground.phase }, { on := 4, ground := Ground.phase }, { on := 5, ground := Ground.phase }, { on := 6, ground := Ground.phase }, { on := 7, ground := Ground.textOnly Departure.lateStores }, { on := 8, ground := Ground.textOnly Departure.lateStores }, { on := 9, ground := Ground.phase }], guard := none } : Oper)) rfl (fun K hK => ?_) AllReadyH.nil)
        obtain ⟨g0, g1, g2⟩ := (bx).cells
        have f0 := (bx).frozen 0
        have f1 := (bx).frozen 1
        have f2 := (bx).frozen 2
        have hbS : Below x1.heap.size x1 (((Yc.setCell ⟨Ya.heap.size, 0, none⟩ (.int .i64 S)).setCell ⟨Ya.heap.size, 1, none⟩ (.bool EN)).setCell ⟨Ya.heap.size, 2, none⟩ (.slice wa L1 cw)) := ((hbYc.setCell (p := ⟨Ya.heap.size, 0, none⟩) (by show x1.heap.size ≤ Ya.heap.size; omega) _).setCell (p := ⟨Ya.heap.size, 1, none⟩) (by show x1.heap.size ≤ Ya.heap.size; omega) _).setCell (p := ⟨Ya.heap.size, 2, none⟩) (by show x1.heap.size ≤ Ya.heap.size; omega) _
        go_simp
        refine hK.out _ _ (HS7.out _ hbS) (fun hHeld => ?_)
        clear hK K
        try simp only [Act.put, List.setIfInBounds_toArray, List.set_cons_zero, List.set_cons_succ]
        refine wpAnyH_take (i := 11) (oi := ({ dst := some 7, op := Op.assign (Operand.tmp 37), type := 22, pos := "exact.go:3499", after := #[{ on := 7, ground := Ground.data }, { on := 10, ground := Ground.chain }, { on := 0, ground := Ground.phase }, { on := 1, ground := Ground.phase }, { on := 2, ground := Ground.phase }, { on := 3, ground := Ground.phase }, { on := 4, ground := Ground.phase }, { on := 5, ground := Ground.phase }, { on := 6, ground := Ground.phase }, { on := 7, ground := Ground.phase }, { on := 8, ground := Ground.textOnly Departure.lateStores }, { on := 9, ground := Ground.phase }, { on := 10, ground := Ground.phase }], guard := none } : Oper)) (v := ?tv37) rfl (by kernel_rfl) (by kernel_rfl) (by kernel_rfl) (fun _ _ _ h => h) (Or.inl ⟨by rfl, ?ty37⟩) (by assumption) ?tr37
        case ty37 => (intro w hSw; (try dsimp only at hSw); (try obtain ⟨s0, s1, s2, s3, s4, s5, s6⟩ := hSw); go_simp <;> with_reducible rfl)
        simp only [Act.put, List.setIfInBounds_toArray, List.set_cons_zero, List.set_cons_succ]
        refine wpAnyH_take (i := 12) (oi := ({ dst := some 8, op := Op.assign (Operand.tmp 38), type := 3, pos := "exact.go:3499", after := #[{ on := 8, ground := Ground.data }, { on := 11, ground := Ground.chain }, { on := 0, ground := Ground.phase }, { on := 1, ground := Ground.phase }, { on := 2, ground := Ground.phase }, { on := 3, ground := Ground.phase }, { on := 4, ground := Ground.phase }, { on := 5, ground := Ground.phase }, { on := 6, ground := Ground.phase }, { on := 7, ground := Ground.phase }, { on := 8, ground := Ground.phase }, { on := 9, ground := Ground.phase }, { on := 10, ground := Ground.phase }, { on := 11, ground := Ground.phase }], guard := none } : Oper)) (v := ?tv38) rfl (by kernel_rfl) (by kernel_rfl) (by kernel_rfl) (fun _ _ _ h => h) (Or.inl ⟨by rfl, ?ty38⟩) (by assumption) ?tr38
        case ty38 => (intro w hSw; (try dsimp only at hSw); (try obtain ⟨s0, s1, s2, s3, s4, s5, s6⟩ := hSw); go_simp <;> with_reducible rfl)
        simp only [Act.put, List.setIfInBounds_toArray, List.set_cons_zero, List.set_cons_succ]
        refine wpAnyH_done (by kernel_rfl) ?_ _
        refine NoPanic.normal ?_
        clear hHeld
        go_wp2_with fail
        go_meet
        exact ⟨Ya.heap.size, wa, cw, wb, cwb, rfl, rfl, rfl, AnsAt.store bx ow1 ow2 hpt (by have h2 := hbf.size; omega) (by omega), hbS⟩
    · have hbA : Below x1.heap.size x1 (x1.drew.alloc (.cells #[.int .i64 0, .bool false, .slice none 0 0] 29)) := ((Below.refl x1.heap.size x1).drew).alloc ((Below.refl x1.heap.size x1).drew).size _
      go_simp
      refine hK.out _ _ (HS7.out _ hbA) (fun hHeld => ?_)
      clear hK K
      try simp only [Act.put, List.setIfInBounds_toArray, List.set_cons_zero, List.set_cons_succ]
      refine wpAnyH_ready (rs := [1]) (by kernel_rfl) (by simp) ?_
      refine (AllReadyH.cons (o := ({ dst := some 32, op := Op.call { callee := Callee.value (Operand.func 7), args := #[Operand.tmp 31], argTypes := #[24] }, type := 29, pos := "exact.go:3499", after := #[{ on := 0, ground := Ground.data }], guard := none } : Oper)) rfl (fun K hK => ?_) AllReadyH.nil)
      go_simp
      refine (toGather_any s en a0 n0 cap0 zs _ (HQ.out _ hbA).2.2.2.1 hn).mono ?_
      rintro e Ya ⟨gg, rfl, hgg, ogg, hbg⟩
      have hbYa : Below x1.heap.size x1 Ya := (hbA).trans (hbg.mono (hbA).size)
      go_wp2_with fail
      refine hK.out _ _ (HS7.out _ hbYa) (fun hHeld => ?_)
      clear hK K
      try simp only [Act.put, List.setIfInBounds_toArray, List.set_cons_zero, List.set_cons_succ]
      refine wpAnyH_ready (rs := [3]) (by kernel_rfl) (by simp) ?_
      refine (AllReadyH.cons (o := ({ dst := some 34, op := Op.call { callee := Callee.value (Operand.func 8), args := #[Operand.tmp 33], argTypes := #[26] }, type := 33, pos := "exact.go:3499", after := #[{ on := 2, ground := Ground.data }, { on := 1, ground := Ground.chain }], guard := none } : Oper)) rfl (fun K hK => ?_) AllReadyH.nil)
      go_simp
      refine (toFrame_any k f fs b0 m0 capb0 ys _ (HQ.out _ hbYa).2.2.2.2.1 hm).mono ?_
      rintro e Yb ⟨gf, rfl, hgf, ogf, hbf⟩
      have hbYb : Below x1.heap.size x1 Yb := (hbYa).trans (hbf.mono (hbYa).size)
      go_wp2_with fail
      refine hK.out _ _ (HS7.out _ hbYb) (fun hHeld => ?_)
      clear hK K
      try simp only [Act.put, List.setIfInBounds_toArray, List.set_cons_zero, List.set_cons_succ]
      refine wpAnyH_ready (rs := [4]) (by kernel_rfl) (by simp) ?_
      refine (AllReadyH.cons (o := ({ dst := some 35, op := Op.call { callee := Callee.value (Operand.func 6), args := #[Operand.tmp 32, Operand.tmp 34], argTypes := #[29, 33] }, type := 30, pos := "exact.go:3499", after := #[{ on := 1, ground := Ground.data }, { on := 3, ground := Ground.data }, { on := 3, ground := Ground.chain }], guard := none } : Oper)) rfl (fun K hK => ?_) AllReadyH.nil)
      go_simp
      refine (specFeed_any s en (some ⟨gg, 0, none⟩) n0 n0 zs k f fs gf 0 m0 m0 ys _ (ogg.below hbf).seg (ogf).seg (Nat.le_refl _) hn hm ((S, EN, Z1), Z2, C) HR.out L1 L2 HL1.out HL2.out).mono ?_
      rintro e Yc ⟨wa, cw, wb, cwb, rfl, ow1, ow2, hpt, hbw⟩
      have hbYc : Below x1.heap.size x1 Yc := (hbYb).trans (hbw.mono (hbYb).size)
      go_wp2_with fail
      refine hK.out _ _ (HS7.out _ hbYc) (fun hHeld => ?_)
      clear hK K
      try simp only [Act.put, List.setIfInBounds_toArray, List.set_cons_zero, List.set_cons_succ]
      refine wpAnyH_take (i := 5) (oi := ({ dst := some 30, op := Op.move (Operand.tmp 35), type := 30, pos := "exact.go:3499", after := #[{ on := 4, ground := Ground.data }], guard := none } : Oper)) (v := ?tv27) rfl (by kernel_rfl) (by kernel_rfl) (by kernel_rfl) (fun _ _ _ h => h) (Or.inl ⟨by rfl, ?ty27⟩) (by assumption) ?tr27
      case ty27 => (intro w hSw; (try dsimp only at hSw); (try obtain ⟨s0, s1, s2, s3, s4, s5, s6⟩ := hSw); go_simp <;> with_reducible rfl)
      simp only [Act.put, List.setIfInBounds_toArray, List.set_cons_zero, List.set_cons_succ]
      refine wpAnyH_take (i := 6) (oi := ({ dst := some 36, op := Op.extract (Operand.tmp 30) 0, type := 29, pos := "exact.go:3499", after := #[{ on := 5, ground := Ground.data }], guard := none } : Oper)) (v := ?tv28) rfl (by kernel_rfl) (by kernel_rfl) (by kernel_rfl) (fun _ _ _ h => h) (Or.inl ⟨by rfl, ?ty28⟩) (by assumption) ?tr28
      case ty28 => (intro w hSw; (try dsimp only at hSw); (try obtain ⟨s0, s1, s2, s3, s4, s5, s6⟩ := hSw); go_simp <;> with_reducible rfl)
      simp only [Act.put, List.setIfInBounds_toArray, List.set_cons_zero, List.set_cons_succ]
      refine wpAnyH_take (i := 7) (oi := ({ dst := some 37, op := Op.extract (Operand.tmp 30) 1, type := 22, pos := "exact.go:3499", after := #[{ on := 5, ground := Ground.data }, { on := 10, ground := Ground.gcOnly Departure.lateStores }], guard := none } : Oper)) (v := ?tv29) rfl (by kernel_rfl) (by kernel_rfl) (by kernel_rfl) (fun _ _ _ h => h) (Or.inl ⟨by rfl, ?ty29⟩) (by assumption) ?tr29
      case ty29 => (intro w hSw; (try dsimp only at hSw); (try obtain ⟨s0, s1, s2, s3, s4, s5, s6⟩ := hSw); go_simp <;> with_reducible rfl)
      simp only [Act.put, List.setIfInBounds_toArray, List.set_cons_zero, List.set_cons_succ]
      refine wpAnyH_take (i := 8) (oi := ({ dst := some 38, op := Op.extract (Operand.tmp 30) 2, type := 3, pos := "exact.go:3499", after := #[{ on := 5, ground := Ground.data }, { on := 11, ground := Ground.gcOnly Departure.lateStores }], guard := none } : Oper)) (v := ?tv30) rfl (by kernel_rfl) (by kernel_rfl) (by kernel_rfl) (fun _ _ _ h => h) (Or.inl ⟨by rfl, ?ty30⟩) (by assumption) ?tr30
      case ty30 => (intro w hSw; (try dsimp only at hSw); (try obtain ⟨s0, s1, s2, s3, s4, s5, s6⟩ := hSw); go_simp <;> with_reducible rfl)
      simp only [Act.put, List.setIfInBounds_toArray, List.set_cons_zero, List.set_cons_succ]
      have bx : Box3 Yc x1.heap.size 29 (.int .i64 0) (.bool false) (.slice none 0 0) := (((Box3.new x1.drew 29 (.int .i64 0) (.bool false) (.slice none 0 0)).stays hbg).stays hbf).stays hbw
      have hsA : (x1.drew.alloc (.cells #[.int .i64 0, .bool false, .slice none 0 0] 29)).heap.size = x1.heap.size + 1 := by rw [World.size_alloc]; rfl
      refine wpAnyH_ready (rs := [10]) (by kernel_rfl) (by simp) ?_
      refine (AllReadyH.cons (o := ({ dst := none, op := Op.store 29 (Operand.tmp 6) (Operand.tmp 36), type := 0, pos := "exact.go:3499", after := #[{ on := 9, ground := Ground.data }, { on := 6, ground := Ground.data }, { on := 4, ground := Ground.chain }, { on := 0, ground := Ground.phase }, { on := 1, ground := Ground.phase }, { on := 2, ground := Ground.phase }, { on := 3, ground := Ground.phase }, { on := 4, ground := Ground.phase }, { on := 5, ground := Ground.phase }, { on := 6, ground := Ground.phase }, { on := 7, ground := Ground.textOnly Departure.lateStores }, { on := 8, ground := Ground.textOnly Departure.lateStores }, { on := 9, ground := Ground.phase }], guard := none } : Oper)) rfl (fun K hK => ?_) AllReadyH.nil)
      obtain ⟨g0, g1, g2⟩ := (bx).cells
      have f0 := (bx).frozen 0
      have f1 := (bx).frozen 1
      have f2 := (bx).frozen 2
      have hbS : Below x1.heap.size x1 (((Yc.setCell ⟨x1.heap.size, 0, none⟩ (.int .i64 S)).setCell ⟨x1.heap.size, 1, none⟩ (.bool EN)).setCell ⟨x1.heap.size, 2, none⟩ (.slice wa L1 cw)) := ((hbYc.setCell (p := ⟨x1.heap.size, 0, none⟩) (by show x1.heap.size ≤ x1.heap.size; omega) _).setCell (p := ⟨x1.heap.size, 1, none⟩) (by show x1.heap.size ≤ x1.heap.size; omega) _).setCell (p := ⟨x1.heap.size, 2, none⟩) (by show x1.heap.size ≤ x1.heap.size; omega) _
      go_simp
      refine hK.out _ _ (HS7.out _ hbS) (fun hHeld => ?_)
      clear hK K
      try simp only [Act.put, List.setIfInBounds_toArray, List.set_cons_zero, List.set_cons_succ]
      refine wpAnyH_take (i := 11) (oi := ({ dst := some 7, op := Op.assign (Operand.tmp 37), type := 22, pos := "exact.go:3499", after := #[{ on := 7, ground := Ground.data }, { on := 10, ground := Ground.chain }, { on := 0, ground := Ground.phase }, { on := 1, ground := Ground.phase }, { on := 2, ground := Ground.phase }, { on := 3, ground := Ground.phase }, { on := 4, ground := Ground.phase }, { on := 5, ground := Ground.phase }, { on := 6, ground := Ground.phase }, { on := 7, ground := Ground.phase }, { on := 8, ground := Ground.textOnly Departure.lateStores }, { on := 9, ground := Ground.phase }, { on := 10, ground := Ground.phase }], guard := none } : Oper)) (v := ?tv31) rfl (by kernel_rfl) (by kernel_rfl) (by kernel_rfl) (fun _ _ _ h => h) (Or.inl ⟨by rfl, ?ty31⟩) (by assumption) ?tr31
      case ty31 => (intro w hSw; (try dsimp only at hSw); (try obtain ⟨s0, s1, s2, s3, s4, s5, s6⟩ := hSw); go_simp <;> with_reducible rfl)
      simp only [Act.put, List.setIfInBounds_toArray, List.set_cons_zero, List.set_cons_succ]
      refine wpAnyH_take (i := 12) (oi := ({ dst := some 8, op := Op.assign (Operand.tmp 38), type := 3, pos := "exact.go:3499", after := #[{ on := 8, ground := Ground.data }, { on := 11, ground := Ground.chain }, { on := 0, ground := Ground.phase }, { on := 1, ground := Ground.phase }, { on := 2, ground := Ground.phase }, { on := 3, ground := Ground.phase }, { on := 4, ground := Ground.phase }, { on := 5, ground := Ground.phase }, { on := 6, ground := Ground.phase }, { on := 7, ground := Ground.phase }, { on := 8, ground := Ground.phase }, { on := 9, ground := Ground.phase }, { on := 10, ground := Ground.phase }, { on := 11, ground := Ground.phase }], guard := none } : Oper)) (v := ?tv32) rfl (by kernel_rfl) (by kernel_rfl) (by kernel_rfl) (fun _ _ _ h => h) (Or.inl ⟨by rfl, ?ty32⟩) (by assumption) ?tr32
      case ty32 => (intro w hSw; (try dsimp only at hSw); (try obtain ⟨s0, s1, s2, s3, s4, s5, s6⟩ := hSw); go_simp <;> with_reducible rfl)
      simp only [Act.put, List.setIfInBounds_toArray, List.set_cons_zero, List.set_cons_succ]
      refine wpAnyH_done (by kernel_rfl) ?_ _
      refine NoPanic.normal ?_
      clear hHeld
      go_wp2_with fail
      go_meet
      exact ⟨x1.heap.size, wa, cw, wb, cwb, rfl, rfl, rfl, AnsAt.store bx ow1 ow2 hpt (by have h1 := hbg.size; have h2 := hbf.size; omega) (Nat.le_refl _), hbS⟩
  case rest =>
  obtain ⟨bw, wa, cw, wb, cwb, rfl, rfl, rfl, HAc, HBc⟩ := hcut
  obtain ⟨x2, hx2⟩ : ∃ x2, wc = x2 := ⟨_, rfl⟩
  rw [hx2] at HAc HBc ⊢
  clear hx2 HS7
  have HQ3 : Hid (∀ W, Below x2.heap.size x2 W → Box3 W w.heap.size 24 (.int .i64 s) (.bool en) (.slice a0 n0 cap0) ∧ Box4 W (w.heap.size + 1) 26 (.int .i64 k) (.int .i64 f) (.int .i64 fs) (.slice b0 m0 capb0) ∧ Below w.heap.size w W ∧ Seg W a0 n0 zs ∧ Seg W b0 m0 ys ∧ ErrT W) := fun W h => HQ.out W (HBc.out.trans (h.mono HBc.out.size))
  have HAw : Hid (∀ W, Below x2.heap.size x2 W → AnsAt W x1.heap.size bw S EN wa L1 cw Z1 wb L2 cwb Z2) := fun W h => HAc.out.stays h
  have HLw : Hid (bw < x2.heap.size ∧ (∀ q, wa.map (·.block) = some q → q < x2.heap.size) ∧ ∀ q, wb.map (·.block) = some q → q < x2.heap.size) := ⟨HAc.out.lts.1, fun q e => (HAc.out.lts.2.1 q e).2, fun q e => (HAc.out.lts.2.2 q e).2⟩
  have HW2 : Hid (w.heap.size + 2 ≤ x2.heap.size) := by show _ ≤ _; have h1 := (HQ3.out _ (Below.refl _ _)).2.1.lt; omega
  clear HQ HBc HAc HQ2
  have hne : (C != C) = false := by simp
  obtain ⟨c0, c1, c2⟩ := (HQ3.out _ (Below.refl _ _)).1.cells
  go_wp2_with fail
  refine (toGather_any s en a0 n0 cap0 zs _ (HQ3.out _ (Below.refl _ _)).2.2.2.1 hn).mono ?_
  rintro e x3 ⟨g3, rfl, hg3, og3, hb3⟩
  obtain ⟨x4, hx4⟩ : ∃ x4, x3.alloc (.cells #[.int .i64 s, .bool en, .slice (some ⟨g3, 0, none⟩) n0 n0] 29) = x4 := ⟨_, rfl⟩
  have HE4 : Hid (x3.alloc (.cells #[.int .i64 s, .bool en, .slice (some ⟨g3, 0, none⟩) n0 n0] 29) = x4) := hx4
  have hz4 : x4.heap.size = x3.heap.size + 1 := by rw [← hx4, World.size_alloc]
  have hb34 : Below x3.heap.size x3 x4 := by rw [← hx4]; exact (Below.refl _ _).alloc (Nat.le_refl _) _
  have HB4 : Hid (Below x2.heap.size x2 x4) := hb3.trans (hb34.mono hb3.size)
  have HX0 : Hid (Box3 x4 x3.heap.size 29 (.int .i64 s) (.bool en) (.slice (some ⟨g3, 0, none⟩) n0 n0) ∧ Owns x4 x2.heap.size (some ⟨g3, 0, none⟩) n0 n0 zs) := ⟨by rw [← hx4]; exact Box3.new _ _ _ _ _, og3.below hb34⟩
  have HG3 : Hid (x2.heap.size ≤ g3 ∧ g3 < x4.heap.size ∧ x3.heap.size < x4.heap.size ∧ x2.heap.size ≤ x3.heap.size) := ⟨hg3, (HX0.out.2.lt g3 rfl).2, by omega, hb3.size⟩
  clear hx4 hz4 hb34 hg3 og3 hb3 c0 c1 c2
  go_upto_region 10 with fail
  rw [HE4.out]
  clear HE4
  generalize x3.heap.size = b9 at *
  obtain ⟨d0, d1, d2, d3⟩ := (HQ3.out _ HB4.out).2.1.cells
  go_wp2_with fail
  refine (toFrame_any k f fs b0 m0 capb0 ys _ (HQ3.out _ HB4.out).2.2.2.2.1 hm).mono ?_
  rintro e x5 ⟨g5, rfl, hg5, og5, hb5⟩
  obtain ⟨x6, hx6⟩ : ∃ x6, x5.alloc (.cells #[.int .i64 k, .int .i64 f, .int .i64 fs, .slice (some ⟨g5, 0, none⟩) m0 m0] 33) = x6 := ⟨_, rfl⟩
  have HE6 : Hid (x5.alloc (.cells #[.int .i64 k, .int .i64 f, .int .i64 fs, .slice (some ⟨g5, 0, none⟩) m0 m0] 33) = x6) := hx6
  have hz6 : x6.heap.size = x5.heap.size + 1 := by rw [← hx6, World.size_alloc]
  have hb56 : Below x5.heap.size x5 x6 := by rw [← hx6]; exact (Below.refl _ _).alloc (Nat.le_refl _) _
  have hb46 : Below x4.heap.size x4 x6 := hb5.trans (hb56.mono hb5.size)
  have HB6 : Hid (Below x2.heap.size x2 x6) := HB4.out.trans (hb46.mono HB4.out.size)
  have HX6 : Hid (Box3 x6 b9 29 (.int .i64 s) (.bool en) (.slice (some ⟨g3, 0, none⟩) n0 n0) ∧ Owns x6 x2.heap.size (some ⟨g3, 0, none⟩) n0 n0 zs) := ⟨HX0.out.1.stays hb46, HX0.out.2.below hb46⟩
  have HY6 : Hid (Box4 x6 x5.heap.size 33 (.int .i64 k) (.int .i64 f) (.int .i64 fs) (.slice (some ⟨g5, 0, none⟩) m0 m0) ∧ Owns x6 x4.heap.size (some ⟨g5, 0, none⟩) m0 m0 ys) := ⟨by rw [← hx6]; exact Box4.new _ _ _ _ _ _, og5.below hb56⟩
  have HG5 : Hid (x4.heap.size ≤ g5 ∧ g5 < x6.heap.size ∧ x4.heap.size ≤ x5.heap.size ∧ x5.heap.size < x6.heap.size) := ⟨hg5, (HY6.out.2.lt g5 rfl).2, hb5.size, by omega⟩
  clear hx6 hz6 hb56 hb46 hg5 og5 hb5 d0 d1 d2 d3 HX0 HB4
  go_upto_region 11 with fail
  rw [HE6.out]
  clear HE6
  generalize x5.heap.size = b10 at *
  obtain ⟨c0, c1, c2⟩ := HX6.out.1.cells
  obtain ⟨d0, d1, d2, d3⟩ := HY6.out.1.cells
  go_wp2_with fail
  refine (implFeed_any s en (some ⟨g3, 0, none⟩) n0 n0 zs k f fs (some ⟨g5, 0, none⟩) m0 m0 ys _ HX6.out.2.seg HY6.out.2.seg ⟨_, rfl⟩ (Nat.le_refl _) hn hm (HQ3.out _ HB6.out).2.2.2.2.2 ((S, EN, Z1), Z2, C) HR.out L1 L2 HL1.out HL2.out).mono ?_
  rintro e x7 ⟨ga, gc, gb, gcb, rfl, og1, og2, hpt, hb7⟩
  obtain ⟨x8, hx8⟩ : ∃ x8, x7.alloc (.cells #[.int .i64 S, .bool EN, .slice ga L1 gc] 29) = x8 := ⟨_, rfl⟩
  have HE8 : Hid (x7.alloc (.cells #[.int .i64 S, .bool EN, .slice ga L1 gc] 29) = x8) := hx8
  have hb68 : Below x6.heap.size x6 x8 := by rw [← hx8]; exact hb7.alloc hb7.size _
  have HAg8 : Hid (AnsAt x8 x6.heap.size x7.heap.size S EN ga L1 gc Z1 gb L2 gcb Z2) := by show AnsAt _ _ _ _ _ _ _ _ _ _ _ _ _; rw [← hx8]; exact AnsAt.new og1 og2 hpt (Nat.le_refl _) hb7.size
  have HU : Hid (∀ W, Below x8.heap.size x8 W → (Box3 W w.heap.size 24 (.int .i64 s) (.bool en) (.slice a0 n0 cap0) ∧ Box4 W (w.heap.size + 1) 26 (.int .i64 k) (.int .i64 f) (.int .i64 fs) (.slice b0 m0 capb0) ∧ Below w.heap.size w W ∧ Seg W a0 n0 zs ∧ Seg W b0 m0 ys ∧ ErrT W) ∧ AnsAt W x1.heap.size bw S EN wa L1 cw Z1 wb L2 cwb Z2 ∧ AnsAt W x6.heap.size x7.heap.size S EN ga L1 gc Z1 gb L2 gcb Z2 ∧ (Box3 W b9 29 (.int .i64 s) (.bool en) (.slice (some ⟨g3, 0, none⟩) n0 n0) ∧ Owns W x2.heap.size (some ⟨g3, 0, none⟩) n0 n0 zs) ∧ Box4 W b10 33 (.int .i64 k) (.int .i64 f) (.int .i64 fs) (.slice (some ⟨g5, 0, none⟩) m0 m0) ∧ Owns W x4.heap.size (some ⟨g5, 0, none⟩) m0 m0 ys) := fun W h => by
    have h6 : Below x6.heap.size x6 W := hb68.trans (h.mono hb68.size)
    have h2 : Below x2.heap.size x2 W := HB6.out.trans (h6.mono HB6.out.size)
    exact ⟨HQ3.out W h2, HAw.out W h2, HAg8.out.stays h, ⟨HX6.out.1.stays h6, HX6.out.2.below h6⟩, HY6.out.1.stays h6, HY6.out.2.below h6⟩
  have HS8 : Hid (x6.heap.size ≤ x8.heap.size) := hb68.size
  clear hx8 hb68 og1 og2 hpt hb7 c0 c1 c2 d0 d1 d2 d3 HX6 HY6 HB6 HAg8 HQ3 HAw
  go_upto_region 12 with fail
  rw [HE8.out]
  clear HE8
  generalize x7.heap.size = b11 at *
  obtain ⟨c0, c1, c2⟩ := (HU.out _ (Below.refl _ _)).2.1.1.cells
  obtain ⟨e0, e1, e2⟩ := (HU.out _ (Below.refl _ _)).2.2.1.1.cells
  go_wp2_with fail
  refine (eqGather_same S EN ga wa L1 gc cw Z1 _ (HU.out _ (Below.refl _ _)).2.2.1.2.1.seg (HU.out _ (Below.refl _ _)).2.1.2.1.seg (by omega)).mono ?_
  rintro e x9 ⟨rfl, hb9⟩
  have HB9 : Hid (Below x8.heap.size x8 x9) := hb9
  clear hb9 c0 c1 c2 e0 e1 e2
  go_wp2_with fail
  refine (eqByteS_same gb wb L2 gcb cwb Z2 _ (HU.out _ HB9.out).2.2.1.2.2.1.seg (HU.out _ HB9.out).2.1.2.2.1.seg (by omega)).mono ?_
  rintro e x10 ⟨rfl, st10⟩
  have HB10 : Hid (Below x8.heap.size x8 x10) := Still.below st10 HB9.out
  clear st10 HB9
  obtain ⟨c0, c1, c2⟩ := (HU.out _ HB10.out).1.1.cells
  obtain ⟨d0, d1, d2⟩ := (HU.out _ HB10.out).2.2.2.1.1.cells
  go_upto_region 14 with fail
  go_cut [69] from 14 (fun v69 W => v69 = .bool false ∧ Hid (Below x8.heap.size x8 W))
  case first =>
    go_region_with (first
      | (go_at_call 7; refine (toGather_any s en a0 n0 cap0 zs _ (HU.out _ HB10.out.drew).1.2.2.2.1 hn).mono ?_; rintro e y1 ⟨g6, rfl, hg6, ho6, hb6⟩; have hb6' : Below x8.heap.size x8 y1 := HB10.out.drew.trans (hb6.mono HB10.out.drew.size); obtain ⟨k0, k1, k2⟩ := (HU.out _ hb6').2.2.2.1.1.cells)
      | (go_at_call 10; refine (eqGather_same s en _ _ n0 n0 n0 zs _ (HU.out _ hb6').2.2.2.1.2.seg ho6.seg (by omega)).mono ?_; rintro e y2 ⟨rfl, hb7⟩)
      | fail)
    all_goals
      have HB9 : Hid (Below x8.heap.size x8 y2) := by
        show Below _ _ _
        first
          | exact hb6'.trans (hb7.mono hb6'.size)
          | exact hb6'.drew.trans (hb7.mono hb6'.size)
      clear hb7 hb6 hb6' ho6 hg6 k0 k1 k2
      go_wp2_with fail
      go_meet
      exact ⟨rfl, HB9⟩
  case rest =>
  obtain ⟨rfl, HBc⟩ := hcut
  clear c0 c1 c2 d0 d1 d2 HB10
  obtain ⟨x11, hx11⟩ : ∃ x11, wc = x11 := ⟨_, rfl⟩
  rw [hx11] at HBc ⊢
  clear hx11
  have HB11 : Hid (Below x8.heap.size x8 x11) := HBc
  clear HBc
  obtain ⟨c0, c1, c2, c3⟩ := (HU.out _ HB11.out).1.2.1.cells
  obtain ⟨d0, d1, d2, d3⟩ := (HU.out _ HB11.out).2.2.2.2.1.cells
  go_upto_region 16 with fail
  go_cut [74] from 14 (fun v74 W => v74 = .bool false ∧ Hid (Below x8.heap.size x8 W))
  case first =>
    go_region_with (first
      | (go_at_call 8; refine (toFrame_any k f fs b0 m0 capb0 ys _ (HU.out _ HB11.out.drew).1.2.2.2.2.1 hm).mono ?_; rintro e y1 ⟨g6, rfl, hg6, ho6, hb6⟩; have hb6' : Below x8.heap.size x8 y1 := HB11.out.drew.trans (hb6.mono HB11.out.drew.size); obtain ⟨k0, k1, k2, k3⟩ := (HU.out _ hb6').2.2.2.2.1.cells)
      | (go_at_call 12; refine (eqFrame_same k f fs _ _ m0 m0 m0 ys _ (HU.out _ hb6').2.2.2.2.2.seg ho6.seg (by omega)).mono ?_; rintro e y2 ⟨rfl, hb7⟩)
      | fail)
    all_goals
      have HB9 : Hid (Below x8.heap.size x8 y2) := by
        show Below _ _ _
        first
          | exact hb6'.trans (hb7.mono hb6'.size)
          | exact hb6'.drew.trans (hb7.mono hb6'.size)
      clear hb7 hb6 hb6' ho6 hg6 k0 k1 k2 k3
      go_wp2_with fail
      go_meet
      exact ⟨rfl, HB9⟩
  case rest =>
  obtain ⟨rfl, HBc⟩ := hcut
  clear c0 c1 c2 c3 d0 d1 d2 d3 HB11
  obtain ⟨x12, hx12⟩ : ∃ x12, wc = x12 := ⟨_, rfl⟩
  rw [hx12] at HBc ⊢
  clear hx12
  have HZ12 : Hid (x8.heap.size ≤ x12.heap.size) := HBc.out.size
  obtain ⟨u1, u2, u3, u4, u5, u6⟩ := HU.out _ HBc.out
  have HQ12 : Hid (Box3 x12 w.heap.size 24 (.int .i64 s) (.bool en) (.slice a0 n0 cap0) ∧ Box4 x12 (w.heap.size + 1) 26 (.int .i64 k) (.int .i64 f) (.int .i64 fs) (.slice b0 m0 capb0) ∧ Below w.heap.size w x12 ∧ Seg x12 a0 n0 zs ∧ Seg x12 b0 m0 ys ∧ ErrT x12) := u1
  have HA12 : Hid (AnsAt x12 x1.heap.size bw S EN wa L1 cw Z1 wb L2 cwb Z2) := u2
  have HG12 : Hid (AnsAt x12 x6.heap.size b11 S EN ga L1 gc Z1 gb L2 gcb Z2) := u3
  have HX12 : Hid (Box3 x12 b9 29 (.int .i64 s) (.bool en) (.slice (some ⟨g3, 0, none⟩) n0 n0) ∧ Owns x12 x2.heap.size (some ⟨g3, 0, none⟩) n0 n0 zs) := u4
  have HY12 : Hid (Box4 x12 b10 33 (.int .i64 k) (.int .i64 f) (.int .i64 fs) (.slice (some ⟨g5, 0, none⟩) m0 m0) ∧ Owns x12 x4.heap.size (some ⟨g5, 0, none⟩) m0 m0 ys) := ⟨u5, u6⟩
  clear u1 u2 u3 u4 u5 u6 HU HBc
  obtain ⟨N1, hN1⟩ : ∃ N1, 1 + n0 = N1 := ⟨_, rfl⟩
  have hN1b : N1 ≤ 1048577 := by omega
  have HN1 : Hid (1 + n0 = N1) := hN1
  clear hN1
  obtain ⟨c0, c1, c2⟩ := HX12.out.1.cells
  go_wp2_with fail
  refine (markGather_any s en x2.heap.size (some ⟨g3, 0, none⟩) n0 n0 1 zs _ HX12.out.2 (by omega) (by omega)).mono ?_
  rintro e x13 ⟨rfl, _, on13⟩
  rw [HN1.out]
  have hgr : x12.grownBy x13 (some g3) := on13
  have h1 := HG3.out
  have h2 := HG5.out
  have h3 := HW2.out
  have HQ13 : Hid (Box3 x13 w.heap.size 24 (.int .i64 s) (.bool en) (.slice a0 n0 cap0) ∧ Box4 x13 (w.heap.size + 1) 26 (.int .i64 k) (.int .i64 f) (.int .i64 fs) (.slice b0 m0 capb0) ∧ Below w.heap.size w x13 ∧ Seg x13 a0 n0 zs ∧ Seg x13 b0 m0 ys ∧ ErrT x13) := HMk.out _ (HQ12.out.1.grown hgr (fun e => by injection e with e; omega)) (HQ12.out.2.1.grown hgr (fun e => by injection e with e; omega)) (HQ12.out.2.2.1.grown hgr HQ12.out.2.2.1.size (fun q e => by injection e with e; omega))
  have HA13 : Hid (AnsAt x13 x1.heap.size bw S EN wa L1 cw Z1 wb L2 cwb Z2) := HA12.out.under hgr x2.heap.size HLw.out.1 HLw.out.2.1 HLw.out.2.2 (fun q e => by injection e with e; omega)
  have HG13 : Hid (AnsAt x13 x6.heap.size b11 S EN ga L1 gc Z1 gb L2 gcb Z2) := HG12.out.above hgr (fun q e => by injection e with e; omega)
  have HY13 : Hid (Box4 x13 b10 33 (.int .i64 k) (.int .i64 f) (.int .i64 fs) (.slice (some ⟨g5, 0, none⟩) m0 m0) ∧ Owns x13 x4.heap.size (some ⟨g5, 0, none⟩) m0 m0 ys) := ⟨HY12.out.1.grown hgr (fun e => by injection e with e; omega), HY12.out.2.grown hgr (fun q e e2 => by injection e with e; have h4 := (HY12.out.2.lt q e2).1; omega)⟩
  have HZ13 : Hid (x8.heap.size ≤ x13.heap.size) := Nat.le_trans HZ12.out hgr.size
  clear on13 hgr h1 h2 h3 HQ12 HA12 HG12 HX12 HY12 HZ12 c0 c1 c2
  obtain ⟨d0, d1, d2, d3⟩ := HY13.out.1.cells
  go_wp2_with fail
  refine (markFrame_from k f fs x4.heap.size (some ⟨g5, 0, none⟩) m0 m0 N1 ys _ HY13.out.2 (by omega) (by omega)).mono ?_
  rintro e x14 ⟨rfl, _, on14⟩
  have hgr : x13.grownBy x14 (some g5) := on14
  have h1 := HG3.out
  have h2 := HG5.out
  have h3 := HW2.out
  have HQ14 : Hid (Box3 x14 w.heap.size 24 (.int .i64 s) (.bool en) (.slice a0 n0 cap0) ∧ Box4 x14 (w.heap.size + 1) 26 (.int .i64 k) (.int .i64 f) (.int .i64 fs) (.slice b0 m0 capb0) ∧ Below w.heap.size w x14 ∧ Seg x14 a0 n0 zs ∧ Seg x14 b0 m0 ys ∧ ErrT x14) := HMk.out _ (HQ13.out.1.grown hgr (fun e => by injection e with e; omega)) (HQ13.out.2.1.grown hgr (fun e => by injection e with e; omega)) (HQ13.out.2.2.1.grown hgr HQ13.out.2.2.1.size (fun q e => by injection e with e; omega))
  have HA14 : Hid (AnsAt x14 x1.heap.size bw S EN wa L1 cw Z1 wb L2 cwb Z2) := HA13.out.under hgr x2.heap.size HLw.out.1 HLw.out.2.1 HLw.out.2.2 (fun q e => by injection e with e; omega)
  have HG14 : Hid (AnsAt x14 x6.heap.size b11 S EN ga L1 gc Z1 gb L2 gcb Z2) := HG13.out.above hgr (fun q e => by injection e with e; omega)
  clear on14 hgr h1 h2 h3 HQ13 HA13 HG13 HY13 HZ13 d0 d1 d2 d3
  generalize hq8 : ((N1 + m0 : Nat) : Int) = q8
  have hq8p : ¬ q8 < 0 := by omega
  have hq8d : decide (q8 < 0) = false := by simp; omega
  clear hq8
  obtain ⟨c0, c1, c2⟩ := HA14.out.1.cells
  obtain ⟨e0, e1, e2⟩ := HG14.out.1.cells
  go_wp2_with fail
  refine (eqGather_same S EN ga wa L1 gc cw Z1 _ HG14.out.2.1.seg HA14.out.2.1.seg (by omega)).mono ?_
  rintro e x15 ⟨rfl, hb15⟩
  have HB15 : Hid (Below x14.heap.size x14 x15) := hb15
  clear hb15 c0 c1 c2 e0 e1 e2
  go_wp2_with fail
  refine (eqByteS_same gb wb L2 gcb cwb Z2 _ (HG14.out.stays HB15.out).2.2.1.seg (HA14.out.stays HB15.out).2.2.1.seg (by omega)).mono ?_
  rintro e x16 ⟨rfl, st16⟩
  have hb16 : Below x14.heap.size x14 x16 := Still.below st16 HB15.out
  have HMs : Hid (∀ W, Below x14.heap.size x14 W → Box3 W w.heap.size 24 (.int .i64 s) (.bool en) (.slice a0 n0 cap0) ∧ Box4 W (w.heap.size + 1) 26 (.int .i64 k) (.int .i64 f) (.int .i64 fs) (.slice b0 m0 capb0) ∧ Below w.heap.size w W ∧ Seg W a0 n0 zs ∧ Seg W b0 m0 ys ∧ ErrT W) := fun W h => HMk.out _ (HQ14.out.1.stays h) (HQ14.out.2.1.stays h) (HQ14.out.2.2.1.trans (h.mono HQ14.out.2.2.1.size))
  have HQ16 : Hid (Box3 x16 w.heap.size 24 (.int .i64 s) (.bool en) (.slice a0 n0 cap0) ∧ Box4 x16 (w.heap.size + 1) 26 (.int .i64 k) (.int .i64 f) (.int .i64 fs) (.slice b0 m0 capb0) ∧ Below w.heap.size w x16 ∧ Seg x16 a0 n0 zs ∧ Seg x16 b0 m0 ys ∧ ErrT x16) := HMs.out _ hb16
  have HA16 : Hid (AnsAt x16 x1.heap.size bw S EN wa L1 cw Z1 wb L2 cwb Z2) := HA14.out.stays hb16
  have HG16 : Hid (AnsAt x16 x6.heap.size b11 S EN ga L1 gc Z1 gb L2 gcb Z2) := HG14.out.stays hb16
  clear st16 hb16 HMs HB15 HQ14 HA14 HG14 hq8p hq8d
  obtain ⟨N3, hN3⟩ : ∃ N3, 1 + L1 = N3 := ⟨_, rfl⟩
  have hN3b : N3 ≤ 2097153 := by omega
  have HN3 : Hid (1 + L1 = N3) := hN3
  clear hN3
  obtain ⟨e0, e1, e2⟩ := HG16.out.1.cells
  go_wp2_with fail
  refine (markGather_any S EN x6.heap.size ga L1 gc 1 Z1 _ HG16.out.2.1 (by omega) (by omega)).mono ?_
  rintro e x17 ⟨rfl, om17, on17⟩
  rw [HN3.out]
  have hgr : x16.grownBy x17 (ga.map (·.block)) := on17
  have hlo : ∀ q, ga.map (·.block) = some q → x2.heap.size ≤ q := fun q e => by have h1 := (HG16.out.2.1.lt q e).1; have h2 := HG3.out; have h3 := HG5.out; omega
  have h3 := HW2.out
  have HQ17 : Hid (Box3 x17 w.heap.size 24 (.int .i64 s) (.bool en) (.slice a0 n0 cap0) ∧ Box4 x17 (w.heap.size + 1) 26 (.int .i64 k) (.int .i64 f) (.int .i64 fs) (.slice b0 m0 capb0) ∧ Below w.heap.size w x17 ∧ Seg x17 a0 n0 zs ∧ Seg x17 b0 m0 ys ∧ ErrT x17) := HMk.out _ (HQ16.out.1.grown hgr (fun e => by have := hlo _ e; omega)) (HQ16.out.2.1.grown hgr (fun e => by have := hlo _ e; omega)) (HQ16.out.2.2.1.grown hgr HQ16.out.2.2.1.size (fun q e => by have := hlo _ e; omega))
  have HA17 : Hid (AnsAt x17 x1.heap.size bw S EN wa L1 cw Z1 wb L2 cwb Z2) := HA16.out.under hgr x2.heap.size HLw.out.1 HLw.out.2.1 HLw.out.2.2 hlo
  have HG17 : Hid (AnsAt x17 x6.heap.size b11 S EN ga L1 gc (marks 1 L1) gb L2 gcb Z2) := HG16.out.first om17 on17
  clear om17 on17 hgr hlo h3 HQ16 HA16 HG16 e0 e1 e2
  go_wp2_with fail
  refine (mark_any x6.heap.size gb L2 gcb N3 Z2 _ HG17.out.2.2.1 (by omega) (by omega)).mono ?_
  rintro e x18 ⟨rfl, om18, on18⟩
  have hgr : x17.grownBy x18 (gb.map (·.block)) := on18
  have hlo : ∀ q, gb.map (·.block) = some q → x2.heap.size ≤ q := fun q e => by have h1 := (HG17.out.2.2.1.lt q e).1; have h2 := HG3.out; have h3 := HG5.out; omega
  have h3 := HW2.out
  have HQ18 : Hid (Box3 x18 w.heap.size 24 (.int .i64 s) (.bool en) (.slice a0 n0 cap0) ∧ Box4 x18 (w.heap.size + 1) 26 (.int .i64 k) (.int .i64 f) (.int .i64 fs) (.slice b0 m0 capb0) ∧ Below w.heap.size w x18 ∧ Seg x18 a0 n0 zs ∧ Seg x18 b0 m0 ys ∧ ErrT x18) := HMk.out _ (HQ17.out.1.grown hgr (fun e => by have := hlo _ e; omega)) (HQ17.out.2.1.grown hgr (fun e => by have := hlo _ e; omega)) (HQ17.out.2.2.1.grown hgr HQ17.out.2.2.1.size (fun q e => by have := hlo _ e; omega))
  have HA18 : Hid (AnsAt x18 x1.heap.size bw S EN wa L1 cw Z1 wb L2 cwb Z2) := HA17.out.under hgr x2.heap.size HLw.out.1 HLw.out.2.1 HLw.out.2.2 hlo
  have HG18 : Hid (AnsAt x18 x6.heap.size b11 S EN ga L1 gc (marks 1 L1) gb L2 gcb (marks N3 L2)) := HG17.out.second om18 on18
  clear om18 on18 hgr hlo h3 HQ17 HA17 HG17
  have HHB : Hid (∀ W : World, Owns W x6.heap.size gb L2 gcb (marks N3 L2) → Calls Tryd.prog 17 #[.slice gb L2 gcb, .int .i64 (N3 : Int)] W fun e w' => e = .returned (.int .i64 ((N3 + L2 : Nat) : Int)) ∧ w' = W) := fun W h => held_any x6.heap.size gb L2 gcb N3 W h (by omega) (by omega)
  have HHG : Hid (∀ W : World, Owns W x6.heap.size ga L1 gc (marks 1 L1) → Calls Tryd.prog 16 #[.agg #[.int .i64 S, .bool EN, .slice ga L1 gc], .int .i64 1] W fun e w' => e = .returned (.int .i64 (N3 : Int)) ∧ Below W.heap.size W w') := fun W h => by
    have h' := heldGather_any S EN x6.heap.size ga L1 gc 1 W h (by omega) (by omega)
    rw [HN3.out] at h'
    exact h'
  generalize hq10 : ((N3 + L2 : Nat) : Int) = q10 at *
  generalize hq3 : ((N3 : Nat) : Int) = q3 at *
  have hq3p : ¬ q3 < 0 := by omega
  have hq3d : decide (q3 < 0) = false := by simp; omega
  have hq10p : ¬ q10 < 0 := by omega
  have hq10d : decide (q10 < 0) = false := by simp; omega
  have hq10e : (q10 != q10) = false := by simp
  clear hq10 hq3
  obtain ⟨e0, e1, e2⟩ := HG18.out.1.cells
  go_wp2_with fail
  refine (HHG.out _ HG18.out.2.1).mono ?_
  rintro e x19 ⟨rfl, hb19⟩
  have HB19 : Hid (Below x18.heap.size x18 x19) := hb19
  clear hb19 e0 e1 e2
  go_wp2_with fail
  refine (HHB.out _ (HG18.out.stays HB19.out).2.2.1).mono ?_
  rintro e x20 ⟨rfl, hx20⟩
  subst hx20
  have HQ20 : Hid (∀ W, Below x20.heap.size x20 W → Box3 W w.heap.size 24 (.int .i64 s) (.bool en) (.slice a0 n0 cap0) ∧ Box4 W (w.heap.size + 1) 26 (.int .i64 k) (.int .i64 f) (.int .i64 fs) (.slice b0 m0 capb0) ∧ Below w.heap.size w W ∧ Seg W a0 n0 zs ∧ Seg W b0 m0 ys ∧ ErrT W) := fun W h => by
    have h' : Below x18.heap.size x18 W := HB19.out.trans (h.mono HB19.out.size)
    exact HMk.out _ (HQ18.out.1.stays h') (HQ18.out.2.1.stays h') (HQ18.out.2.2.1.trans (h'.mono HQ18.out.2.2.1.size))
  have HA20 : Hid (AnsAt x20 x1.heap.size bw S EN wa L1 cw Z1 wb L2 cwb Z2) := HA18.out.stays HB19.out
  have HG20 : Hid (AnsAt x20 x6.heap.size b11 S EN ga L1 gc (marks 1 L1) gb L2 gcb (marks N3 L2)) := HG18.out.stays HB19.out
  clear HB19 HQ18 HA18 HG18
  have HQ : Hid (∀ W, Below x20.heap.size x20 W → Box3 W w.heap.size 24 (.int .i64 s) (.bool en) (.slice a0 n0 cap0) ∧ Box4 W (w.heap.size + 1) 26 (.int .i64 k) (.int .i64 f) (.int .i64 fs) (.slice b0 m0 capb0) ∧ Below w.heap.size w W ∧ Seg W a0 n0 zs ∧ Seg W b0 m0 ys ∧ ErrT W) := HQ20
  have HS7 : Hid (∀ W, Below x20.heap.size x20 W → (fun W => W.cell? ⟨w.heap.size, 0, none⟩ = some (.int .i64 s) ∧ W.cell? ⟨w.heap.size, 1, none⟩ = some (.bool en) ∧ W.cell? ⟨w.heap.size, 2, none⟩ = some (.slice a0 n0 cap0) ∧ W.cell? ⟨w.heap.size + 1, 0, none⟩ = some (.int .i64 k) ∧ W.cell? ⟨w.heap.size + 1, 1, none⟩ = some (.int .i64 f) ∧ W.cell? ⟨w.heap.size + 1, 2, none⟩ = some (.int .i64 fs) ∧ W.cell? ⟨w.heap.size + 1, 3, none⟩ = some (.slice b0 m0 capb0)) W) := fun W h => by
    obtain ⟨h1, h2, _⟩ := HQ.out W h
    obtain ⟨e0, e1, e2⟩ := h1.cells
    obtain ⟨e3, e4, e5, e6⟩ := h2.cells
    exact ⟨e0, e1, e2, e3, e4, e5, e6⟩
  go_upto_region 35 with fail
  go_cut [17, 18, 19] from 17 (fun v17 v18 v19 W => ∃ bw wa cw wb cwb, v17 = .pointer (some ⟨bw, 0, none⟩) ∧ v18 = .slice wb L2 cwb ∧ v19 = .int .i64 C ∧ Hid (AnsAt W x20.heap.size bw S EN wa L1 cw Z1 wb L2 cwb Z2) ∧ Hid (Below x20.heap.size x20 W))
  case first =>
    refine wp_region_noPanic ?_
    have hXs : x20.heap.size ≤ x20.heap.size := Nat.le_refl _
    refine wp_region_held_drew (S := fun W => W.cell? ⟨w.heap.size, 0, none⟩ = some (.int .i64 s) ∧ W.cell? ⟨w.heap.size, 1, none⟩ = some (.bool en) ∧ W.cell? ⟨w.heap.size, 2, none⟩ = some (.slice a0 n0 cap0) ∧ W.cell? ⟨w.heap.size + 1, 0, none⟩ = some (.int .i64 k) ∧ W.cell? ⟨w.heap.size + 1, 1, none⟩ = some (.int .i64 f) ∧ W.cell? ⟨w.heap.size + 1, 2, none⟩ = some (.int .i64 fs) ∧ W.cell? ⟨w.heap.size + 1, 3, none⟩ = some (.slice b0 m0 capb0)) (by kernel_rfl) (HS7.out _ ((Below.refl x20.heap.size x20).drew)) (fun hHeld => ?_)
    refine wpAnyH_take (i := 0) (oi := ({ dst := some 120, op := Op.load 24 (Operand.tmp 2), type := 24, pos := "exact.go:3533", after := #[], guard := none } : Oper)) (v := ?tv25) rfl (by kernel_rfl) (by kernel_rfl) (by kernel_rfl) (fun _ _ _ h => h) (Or.inl ⟨by rfl, ?ty25⟩) (by assumption) ?tr25
    case ty25 => (intro w hSw; (try dsimp only at hSw); (try obtain ⟨s0, s1, s2, s3, s4, s5, s6⟩ := hSw); go_simp <;> with_reducible rfl)
    simp only [Act.put, List.setIfInBounds_toArray, List.set_cons_zero, List.set_cons_succ]
    refine wpAnyH_take (i := 2) (oi := ({ dst := some 122, op := Op.load 26 (Operand.tmp 3), type := 26, pos := "exact.go:3533", after := #[], guard := none } : Oper)) (v := ?tv26) rfl (by kernel_rfl) (by kernel_rfl) (by kernel_rfl) (fun _ _ _ h => h) (Or.inl ⟨by rfl, ?ty26⟩) (by assumption) ?tr26
    case ty26 => (intro w hSw; (try dsimp only at hSw); (try obtain ⟨s0, s1, s2, s3, s4, s5, s6⟩ := hSw); go_simp <;> with_reducible rfl)
    simp only [Act.put, List.setIfInBounds_toArray, List.set_cons_zero, List.set_cons_succ]
    refine wpAnyH_ready (rs := [1, 9]) (by kernel_rfl) (by simp) ?_
    refine (AllReadyH.cons (o := ({ dst := some 121, op := Op.call { callee := Callee.value (Operand.func 7), args := #[Operand.tmp 120], argTypes := #[24] }, type := 29, pos := "exact.go:3533", after := #[{ on := 0, ground := Ground.data }], guard := none } : Oper)) rfl (fun K hK => ?_) (AllReadyH.cons (o := ({ dst := some 17, op := Op.alloc 29, type := 0, pos := "exact.go:3533", after := #[], guard := none } : Oper)) rfl (fun K hK => ?_) AllReadyH.nil))
    · go_simp
      refine (toGather_any s en a0 n0 cap0 zs _ (HQ.out _ (Below.refl x20.heap.size x20).drew).2.2.2.1 hn).mono ?_
      rintro e Ya ⟨gg, rfl, hgg, ogg, hbg⟩
      have hbYa : Below x20.heap.size x20 Ya := ((Below.refl x20.heap.size x20).drew).trans (hbg.mono ((Below.refl x20.heap.size x20).drew).size)
      go_wp2_with fail
      refine hK.out _ _ (HS7.out _ hbYa) (fun hHeld => ?_)
      clear hK K
      try simp only [Act.put, List.setIfInBounds_toArray, List.set_cons_zero, List.set_cons_succ]
      refine wpAnyH_ready (rs := [3, 9]) (by kernel_rfl) (by simp) ?_
      refine (AllReadyH.cons (o := ({ dst := some 123, op := Op.call { callee := Callee.value (Operand.func 8), args := #[Operand.tmp 122], argTypes := #[26] }, type := 33, pos := "exact.go:3533", after := #[{ on := 2, ground := Ground.data }, { on := 1, ground := Ground.chain }], guard := none } : Oper)) rfl (fun K hK => ?_) (AllReadyH.cons (o := ({ dst := some 17, op := Op.alloc 29, type := 0, pos := "exact.go:3533", after := #[], guard := none } : Oper)) rfl (fun K hK => ?_) AllReadyH.nil))
      · go_simp
        refine (toFrame_any k f fs b0 m0 capb0 ys _ (HQ.out _ hbYa).2.2.2.2.1 hm).mono ?_
        rintro e Yb ⟨gf, rfl, hgf, ogf, hbf⟩
        have hbYb : Below x20.heap.size x20 Yb := (hbYa).trans (hbf.mono (hbYa).size)
        go_wp2_with fail
        refine hK.out _ _ (HS7.out _ hbYb) (fun hHeld => ?_)
        clear hK K
        try simp only [Act.put, List.setIfInBounds_toArray, List.set_cons_zero, List.set_cons_succ]
        refine wpAnyH_ready (rs := [4, 9]) (by kernel_rfl) (by simp) ?_
        refine (AllReadyH.cons (o := ({ dst := some 124, op := Op.call { callee := Callee.value (Operand.func 9), args := #[Operand.tmp 121, Operand.tmp 123], argTypes := #[29, 33] }, type := 30, pos := "exact.go:3533", after := #[{ on := 1, ground := Ground.data }, { on := 3, ground := Ground.data }, { on := 3, ground := Ground.chain }], guard := none } : Oper)) rfl (fun K hK => ?_) (AllReadyH.cons (o := ({ dst := some 17, op := Op.alloc 29, type := 0, pos := "exact.go:3533", after := #[], guard := none } : Oper)) rfl (fun K hK => ?_) AllReadyH.nil))
        · go_simp
          refine (implFeed_any s en (some ⟨gg, 0, none⟩) n0 n0 zs k f fs (some ⟨gf, 0, none⟩) m0 m0 ys _ (ogg.below hbf).seg (ogf).seg ⟨_, rfl⟩ (Nat.le_refl _) hn hm (HQ.out _ hbYb).2.2.2.2.2 ((S, EN, Z1), Z2, C) HR.out L1 L2 HL1.out HL2.out).mono ?_
          rintro e Yc ⟨wa, cw, wb, cwb, rfl, ow1, ow2, hpt, hbw⟩
          have hbYc : Below x20.heap.size x20 Yc := (hbYb).trans (hbw.mono (hbYb).size)
          go_wp2_with fail
          refine hK.out _ _ (HS7.out _ hbYc) (fun hHeld => ?_)
          clear hK K
          try simp only [Act.put, List.setIfInBounds_toArray, List.set_cons_zero, List.set_cons_succ]
          refine wpAnyH_take (i := 5) (oi := ({ dst := some 119, op := Op.move (Operand.tmp 124), type := 30, pos := "exact.go:3533", after := #[{ on := 4, ground := Ground.data }], guard := none } : Oper)) (v := ?tv19) rfl (by kernel_rfl) (by kernel_rfl) (by kernel_rfl) (fun _ _ _ h => h) (Or.inl ⟨by rfl, ?ty19⟩) (by assumption) ?tr19
          case ty19 => (intro w hSw; (try dsimp only at hSw); (try obtain ⟨s0, s1, s2, s3, s4, s5, s6⟩ := hSw); go_simp <;> with_reducible rfl)
          simp only [Act.put, List.setIfInBounds_toArray, List.set_cons_zero, List.set_cons_succ]
          refine wpAnyH_take (i := 6) (oi := ({ dst := some 125, op := Op.extract (Operand.tmp 119) 0, type := 29, pos := "exact.go:3533", after := #[{ on := 5, ground := Ground.data }], guard := none } : Oper)) (v := ?tv20) rfl (by kernel_rfl) (by kernel_rfl) (by kernel_rfl) (fun _ _ _ h => h) (Or.inl ⟨by rfl, ?ty20⟩) (by assumption) ?tr20
          case ty20 => (intro w hSw; (try dsimp only at hSw); (try obtain ⟨s0, s1, s2, s3, s4, s5, s6⟩ := hSw); go_simp <;> with_reducible rfl)
          simp only [Act.put, List.setIfInBounds_toArray, List.set_cons_zero, List.set_cons_succ]
          refine wpAnyH_take (i := 7) (oi := ({ dst := some 126, op := Op.extract (Operand.tmp 119) 1, type := 22, pos := "exact.go:3533", after := #[{ on := 5, ground := Ground.data }, { on := 10, ground := Ground.gcOnly Departure.lateStores }], guard := none } : Oper)) (v := ?tv21) rfl (by kernel_rfl) (by kernel_rfl) (by kernel_rfl) (fun _ _ _ h => h) (Or.inl ⟨by rfl, ?ty21⟩) (by assumption) ?tr21
          case ty21 => (intro w hSw; (try dsimp only at hSw); (try obtain ⟨s0, s1, s2, s3, s4, s5, s6⟩ := hSw); go_simp <;> with_reducible rfl)
          simp only [Act.put, List.setIfInBounds_toArray, List.set_cons_zero, List.set_cons_succ]
          refine wpAnyH_take (i := 8) (oi := ({ dst := some 127, op := Op.extract (Operand.tmp 119) 2, type := 3, pos := "exact.go:3533", after := #[{ on := 5, ground := Ground.data }, { on := 11, ground := Ground.gcOnly Departure.lateStores }], guard := none } : Oper)) (v := ?tv22) rfl (by kernel_rfl) (by kernel_rfl) (by kernel_rfl) (fun _ _ _ h => h) (Or.inl ⟨by rfl, ?ty22⟩) (by assumption) ?tr22
          case ty22 => (intro w hSw; (try dsimp only at hSw); (try obtain ⟨s0, s1, s2, s3, s4, s5, s6⟩ := hSw); go_simp <;> with_reducible rfl)
          simp only [Act.put, List.setIfInBounds_toArray, List.set_cons_zero, List.set_cons_succ]
          refine wpAnyH_ready (rs := [9]) (by kernel_rfl) (by simp) ?_
          refine (AllReadyH.cons (o := ({ dst := some 17, op := Op.alloc 29, type := 0, pos := "exact.go:3533", after := #[], guard := none } : Oper)) rfl (fun K hK => ?_) AllReadyH.nil)
          have hbA : Below x20.heap.size x20 (Yc.alloc (.cells #[.int .i64 0, .bool false, .slice none 0 0] 29)) := hbYc.alloc hbYc.size _
          go_simp
          refine hK.out _ _ (HS7.out _ hbA) (fun hHeld => ?_)
          clear hK K
          try simp only [Act.put, List.setIfInBounds_toArray, List.set_cons_zero, List.set_cons_succ]
          have hy1 := hbg.size
          have hy2 := hbf.size
          have hy3 := hbw.size
          have hy0 : x20.drew.heap.size = x20.heap.size := rfl
          refine wpAnyH_ready (rs := [10]) (by kernel_rfl) (by simp) ?_
          refine (AllReadyH.cons (o := ({ dst := none, op := Op.store 29 (Operand.tmp 17) (Operand.tmp 125), type := 0, pos := "exact.go:3533", after := #[{ on := 9, ground := Ground.data }, { on := 6, ground := Ground.data }, { on := 4, ground := Ground.chain }, { on := 0, ground := Ground.phase }, { on := 1, ground := Ground.phase }, { on := 2, ground := Ground.phase }, { on := 3, ground := Ground.phase }, { on := 4, ground := Ground.phase }, { on := 5, ground := Ground.phase }, { on := 6, ground := Ground.phase }, { on := 7, ground := Ground.textOnly Departure.lateStores }, { on := 8, ground := Ground.textOnly Departure.lateStores }, { on := 9, ground := Ground.phase }], guard := none } : Oper)) rfl (fun K hK => ?_) AllReadyH.nil)
          have hbS : Below x20.heap.size x20 (Yc.alloc (.cells #[.int .i64 S, .bool EN, .slice wa L1 cw] 29)) := hbYc.alloc hbYc.size _
          go_simp
          refine hK.out _ _ (HS7.out _ hbS) (fun hHeld => ?_)
          clear hK K
          try simp only [Act.put, List.setIfInBounds_toArray, List.set_cons_zero, List.set_cons_succ]
          refine wpAnyH_take (i := 11) (oi := ({ dst := some 18, op := Op.assign (Operand.tmp 126), type := 22, pos := "exact.go:3533", after := #[{ on := 7, ground := Ground.data }, { on := 10, ground := Ground.chain }, { on := 0, ground := Ground.phase }, { on := 1, ground := Ground.phase }, { on := 2, ground := Ground.phase }, { on := 3, ground := Ground.phase }, { on := 4, ground := Ground.phase }, { on := 5, ground := Ground.phase }, { on := 6, ground := Ground.phase }, { on := 7, ground := Ground.phase }, { on := 8, ground := Ground.textOnly Departure.lateStores }, { on := 9, ground := Ground.phase }, { on := 10, ground := Ground.phase }], guard := none } : Oper)) (v := ?tv23) rfl (by kernel_rfl) (by kernel_rfl) (by kernel_rfl) (fun _ _ _ h => h) (Or.inl ⟨by rfl, ?ty23⟩) (by assumption) ?tr23
          case ty23 => (intro w hSw; (try dsimp only at hSw); (try obtain ⟨s0, s1, s2, s3, s4, s5, s6⟩ := hSw); go_simp <;> with_reducible rfl)
          simp only [Act.put, List.setIfInBounds_toArray, List.set_cons_zero, List.set_cons_succ]
          refine wpAnyH_take (i := 12) (oi := ({ dst := some 19, op := Op.assign (Operand.tmp 127), type := 3, pos := "exact.go:3533", after := #[{ on := 8, ground := Ground.data }, { on := 11, ground := Ground.chain }, { on := 0, ground := Ground.phase }, { on := 1, ground := Ground.phase }, { on := 2, ground := Ground.phase }, { on := 3, ground := Ground.phase }, { on := 4, ground := Ground.phase }, { on := 5, ground := Ground.phase }, { on := 6, ground := Ground.phase }, { on := 7, ground := Ground.phase }, { on := 8, ground := Ground.phase }, { on := 9, ground := Ground.phase }, { on := 10, ground := Ground.phase }, { on := 11, ground := Ground.phase }], guard := none } : Oper)) (v := ?tv24) rfl (by kernel_rfl) (by kernel_rfl) (by kernel_rfl) (fun _ _ _ h => h) (Or.inl ⟨by rfl, ?ty24⟩) (by assumption) ?tr24
          case ty24 => (intro w hSw; (try dsimp only at hSw); (try obtain ⟨s0, s1, s2, s3, s4, s5, s6⟩ := hSw); go_simp <;> with_reducible rfl)
          simp only [Act.put, List.setIfInBounds_toArray, List.set_cons_zero, List.set_cons_succ]
          refine wpAnyH_done (by kernel_rfl) ?_ _
          refine NoPanic.normal ?_
          clear hHeld
          go_wp2_with fail
          go_meet
          exact ⟨Yc.heap.size, wa, cw, wb, cwb, rfl, rfl, rfl, AnsAt.new ow1 ow2 hpt (by omega) (by omega), hbS⟩
        · have hbA : Below x20.heap.size x20 (Yb.alloc (.cells #[.int .i64 0, .bool false, .slice none 0 0] 29)) := hbYb.alloc hbYb.size _
          go_simp
          refine hK.out _ _ (HS7.out _ hbA) (fun hHeld => ?_)
          clear hK K
          try simp only [Act.put, List.setIfInBounds_toArray, List.set_cons_zero, List.set_cons_succ]
          refine wpAnyH_ready (rs := [4]) (by kernel_rfl) (by simp) ?_
          refine (AllReadyH.cons (o := ({ dst := some 124, op := Op.call { callee := Callee.value (Operand.func 9), args := #[Operand.tmp 121, Operand.tmp 123], argTypes := #[29, 33] }, type := 30, pos := "exact.go:3533", after := #[{ on := 1, ground := Ground.data }, { on := 3, ground := Ground.data }, { on := 3, ground := Ground.chain }], guard := none } : Oper)) rfl (fun K hK => ?_) AllReadyH.nil)
          go_simp
          refine (implFeed_any s en (some ⟨gg, 0, none⟩) n0 n0 zs k f fs (some ⟨gf, 0, none⟩) m0 m0 ys _ ((ogg.below hbf).below ((Below.refl _ _).alloc (Nat.le_refl _) _)).seg (ogf.below ((Below.refl _ _).alloc (Nat.le_refl _) _)).seg ⟨_, rfl⟩ (Nat.le_refl _) hn hm (HQ.out _ hbA).2.2.2.2.2 ((S, EN, Z1), Z2, C) HR.out L1 L2 HL1.out HL2.out).mono ?_
          rintro e Yc ⟨wa, cw, wb, cwb, rfl, ow1, ow2, hpt, hbw⟩
          have hbYc : Below x20.heap.size x20 Yc := (hbA).trans (hbw.mono (hbA).size)
          go_wp2_with fail
          refine hK.out _ _ (HS7.out _ hbYc) (fun hHeld => ?_)
          clear hK K
          try simp only [Act.put, List.setIfInBounds_toArray, List.set_cons_zero, List.set_cons_succ]
          refine wpAnyH_take (i := 5) (oi := ({ dst := some 119, op := Op.move (Operand.tmp 124), type := 30, pos := "exact.go:3533", after := #[{ on := 4, ground := Ground.data }], guard := none } : Oper)) (v := ?tv13) rfl (by kernel_rfl) (by kernel_rfl) (by kernel_rfl) (fun _ _ _ h => h) (Or.inl ⟨by rfl, ?ty13⟩) (by assumption) ?tr13
          case ty13 => (intro w hSw; (try dsimp only at hSw); (try obtain ⟨s0, s1, s2, s3, s4, s5, s6⟩ := hSw); go_simp <;> with_reducible rfl)
          simp only [Act.put, List.setIfInBounds_toArray, List.set_cons_zero, List.set_cons_succ]
          refine wpAnyH_take (i := 6) (oi := ({ dst := some 125, op := Op.extract (Operand.tmp 119) 0, type := 29, pos := "exact.go:3533", after := #[{ on := 5, ground := Ground.data }], guard := none } : Oper)) (v := ?tv14) rfl (by kernel_rfl) (by kernel_rfl) (by kernel_rfl) (fun _ _ _ h => h) (Or.inl ⟨by rfl, ?ty14⟩) (by assumption) ?tr14
          case ty14 => (intro w hSw; (try dsimp only at hSw); (try obtain ⟨s0, s1, s2, s3, s4, s5, s6⟩ := hSw); go_simp <;> with_reducible rfl)
          simp only [Act.put, List.setIfInBounds_toArray, List.set_cons_zero, List.set_cons_succ]
          refine wpAnyH_take (i := 7) (oi := ({ dst := some 126, op := Op.extract (Operand.tmp 119) 1, type := 22, pos := "exact.go:3533", after := #[{ on := 5, ground := Ground.data }, { on := 10, ground := Ground.gcOnly Departure.lateStores }], guard := none } : Oper)) (v := ?tv15) rfl (by kernel_rfl) (by kernel_rfl) (by kernel_rfl) (fun _ _ _ h => h) (Or.inl ⟨by rfl, ?ty15⟩) (by assumption) ?tr15
          case ty15 => (intro w hSw; (try dsimp only at hSw); (try obtain ⟨s0, s1, s2, s3, s4, s5, s6⟩ := hSw); go_simp <;> with_reducible rfl)
          simp only [Act.put, List.setIfInBounds_toArray, List.set_cons_zero, List.set_cons_succ]
          refine wpAnyH_take (i := 8) (oi := ({ dst := some 127, op := Op.extract (Operand.tmp 119) 2, type := 3, pos := "exact.go:3533", after := #[{ on := 5, ground := Ground.data }, { on := 11, ground := Ground.gcOnly Departure.lateStores }], guard := none } : Oper)) (v := ?tv16) rfl (by kernel_rfl) (by kernel_rfl) (by kernel_rfl) (fun _ _ _ h => h) (Or.inl ⟨by rfl, ?ty16⟩) (by assumption) ?tr16
          case ty16 => (intro w hSw; (try dsimp only at hSw); (try obtain ⟨s0, s1, s2, s3, s4, s5, s6⟩ := hSw); go_simp <;> with_reducible rfl)
          simp only [Act.put, List.setIfInBounds_toArray, List.set_cons_zero, List.set_cons_succ]
          have hy1 := hbg.size
          have hy2 := hbf.size
          have hy0 : x20.drew.heap.size = x20.heap.size := rfl
          have bx : Box3 Yc Yb.heap.size 29 (.int .i64 0) (.bool false) (.slice none 0 0) := (Box3.new Yb 29 (.int .i64 0) (.bool false) (.slice none 0 0)).stays hbw
          have hsA : (Yb.alloc (.cells #[.int .i64 0, .bool false, .slice none 0 0] 29)).heap.size = Yb.heap.size + 1 := World.size_alloc _ _
          refine wpAnyH_ready (rs := [10]) (by kernel_rfl) (by simp) ?_
          refine (AllReadyH.cons (o := ({ dst := none, op := Op.store 29 (Operand.tmp 17) (Operand.tmp 125), type := 0, pos := "exact.go:3533", after := #[{ on := 9, ground := Ground.data }, { on := 6, ground := Ground.data }, { on := 4, ground := Ground.chain }, { on := 0, ground := Ground.phase }, { on := 1, ground := Ground.phase }, { on := 2, ground := Ground.phase }, { on := 3, ground := Ground.phase }, { on := 4, ground := Ground.phase }, { on := 5, ground := Ground.phase }, { on := 6, ground := Ground.phase }, { on := 7, ground := Ground.textOnly Departure.lateStores }, { on := 8, ground := Ground.textOnly Departure.lateStores }, { on := 9, ground := Ground.phase }], guard := none } : Oper)) rfl (fun K hK => ?_) AllReadyH.nil)
          obtain ⟨g0, g1, g2⟩ := (bx).cells
          have f0 := (bx).frozen 0
          have f1 := (bx).frozen 1
          have f2 := (bx).frozen 2
          have hbS : Below x20.heap.size x20 (((Yc.setCell ⟨Yb.heap.size, 0, none⟩ (.int .i64 S)).setCell ⟨Yb.heap.size, 1, none⟩ (.bool EN)).setCell ⟨Yb.heap.size, 2, none⟩ (.slice wa L1 cw)) := ((hbYc.setCell (p := ⟨Yb.heap.size, 0, none⟩) (by show x20.heap.size ≤ Yb.heap.size; omega) _).setCell (p := ⟨Yb.heap.size, 1, none⟩) (by show x20.heap.size ≤ Yb.heap.size; omega) _).setCell (p := ⟨Yb.heap.size, 2, none⟩) (by show x20.heap.size ≤ Yb.heap.size; omega) _
          go_simp
          refine hK.out _ _ (HS7.out _ hbS) (fun hHeld => ?_)
          clear hK K
          try simp only [Act.put, List.setIfInBounds_toArray, List.set_cons_zero, List.set_cons_succ]
          refine wpAnyH_take (i := 11) (oi := ({ dst := some 18, op := Op.assign (Operand.tmp 126), type := 22, pos := "exact.go:3533", after := #[{ on := 7, ground := Ground.data }, { on := 10, ground := Ground.chain }, { on := 0, ground := Ground.phase }, { on := 1, ground := Ground.phase }, { on := 2, ground := Ground.phase }, { on := 3, ground := Ground.phase }, { on := 4, ground := Ground.phase }, { on := 5, ground := Ground.phase }, { on := 6, ground := Ground.phase }, { on := 7, ground := Ground.phase }, { on := 8, ground := Ground.textOnly Departure.lateStores }, { on := 9, ground := Ground.phase }, { on := 10, ground := Ground.phase }], guard := none } : Oper)) (v := ?tv17) rfl (by kernel_rfl) (by kernel_rfl) (by kernel_rfl) (fun _ _ _ h => h) (Or.inl ⟨by rfl, ?ty17⟩) (by assumption) ?tr17
          case ty17 => (intro w hSw; (try dsimp only at hSw); (try obtain ⟨s0, s1, s2, s3, s4, s5, s6⟩ := hSw); go_simp <;> with_reducible rfl)
          simp only [Act.put, List.setIfInBounds_toArray, List.set_cons_zero, List.set_cons_succ]
          refine wpAnyH_take (i := 12) (oi := ({ dst := some 19, op := Op.assign (Operand.tmp 127), type := 3, pos := "exact.go:3533", after := #[{ on := 8, ground := Ground.data }, { on := 11, ground := Ground.chain }, { on := 0, ground := Ground.phase }, { on := 1, ground := Ground.phase }, { on := 2, ground := Ground.phase }, { on := 3, ground := Ground.phase }, { on := 4, ground := Ground.phase }, { on := 5, ground := Ground.phase }, { on := 6, ground := Ground.phase }, { on := 7, ground := Ground.phase }, { on := 8, ground := Ground.phase }, { on := 9, ground := Ground.phase }, { on := 10, ground := Ground.phase }, { on := 11, ground := Ground.phase }], guard := none } : Oper)) (v := ?tv18) rfl (by kernel_rfl) (by kernel_rfl) (by kernel_rfl) (fun _ _ _ h => h) (Or.inl ⟨by rfl, ?ty18⟩) (by assumption) ?tr18
          case ty18 => (intro w hSw; (try dsimp only at hSw); (try obtain ⟨s0, s1, s2, s3, s4, s5, s6⟩ := hSw); go_simp <;> with_reducible rfl)
          simp only [Act.put, List.setIfInBounds_toArray, List.set_cons_zero, List.set_cons_succ]
          refine wpAnyH_done (by kernel_rfl) ?_ _
          refine NoPanic.normal ?_
          clear hHeld
          go_wp2_with fail
          go_meet
          exact ⟨Yb.heap.size, wa, cw, wb, cwb, rfl, rfl, rfl, AnsAt.store bx ow1 ow2 hpt (by omega) (by omega), hbS⟩
      · have hbA : Below x20.heap.size x20 (Ya.alloc (.cells #[.int .i64 0, .bool false, .slice none 0 0] 29)) := hbYa.alloc hbYa.size _
        go_simp
        refine hK.out _ _ (HS7.out _ hbA) (fun hHeld => ?_)
        clear hK K
        try simp only [Act.put, List.setIfInBounds_toArray, List.set_cons_zero, List.set_cons_succ]
        refine wpAnyH_ready (rs := [3]) (by kernel_rfl) (by simp) ?_
        refine (AllReadyH.cons (o := ({ dst := some 123, op := Op.call { callee := Callee.value (Operand.func 8), args := #[Operand.tmp 122], argTypes := #[26] }, type := 33, pos := "exact.go:3533", after := #[{ on := 2, ground := Ground.data }, { on := 1, ground := Ground.chain }], guard := none } : Oper)) rfl (fun K hK => ?_) AllReadyH.nil)
        go_simp
        refine (toFrame_any k f fs b0 m0 capb0 ys _ (HQ.out _ hbA).2.2.2.2.1 hm).mono ?_
        rintro e Yb ⟨gf, rfl, hgf, ogf, hbf⟩
        have hbYb : Below x20.heap.size x20 Yb := (hbA).trans (hbf.mono (hbA).size)
        go_wp2_with fail
        refine hK.out _ _ (HS7.out _ hbYb) (fun hHeld => ?_)
        clear hK K
        try simp only [Act.put, List.setIfInBounds_toArray, List.set_cons_zero, List.set_cons_succ]
        refine wpAnyH_ready (rs := [4]) (by kernel_rfl) (by simp) ?_
        refine (AllReadyH.cons (o := ({ dst := some 124, op := Op.call { callee := Callee.value (Operand.func 9), args := #[Operand.tmp 121, Operand.tmp 123], argTypes := #[29, 33] }, type := 30, pos := "exact.go:3533", after := #[{ on := 1, ground := Ground.data }, { on := 3, ground := Ground.data }, { on := 3, ground := Ground.chain }], guard := none } : Oper)) rfl (fun K hK => ?_) AllReadyH.nil)
        go_simp
        refine (implFeed_any s en (some ⟨gg, 0, none⟩) n0 n0 zs k f fs (some ⟨gf, 0, none⟩) m0 m0 ys _ ((ogg.below ((Below.refl _ _).alloc (Nat.le_refl _) _)).below hbf).seg (ogf).seg ⟨_, rfl⟩ (Nat.le_refl _) hn hm (HQ.out _ hbYb).2.2.2.2.2 ((S, EN, Z1), Z2, C) HR.out L1 L2 HL1.out HL2.out).mono ?_
        rintro e Yc ⟨wa, cw, wb, cwb, rfl, ow1, ow2, hpt, hbw⟩
        have hbYc : Below x20.heap.size x20 Yc := (hbYb).trans (hbw.mono (hbYb).size)
        go_wp2_with fail
        refine hK.out _ _ (HS7.out _ hbYc) (fun hHeld => ?_)
        clear hK K
        try simp only [Act.put, List.setIfInBounds_toArray, List.set_cons_zero, List.set_cons_succ]
        refine wpAnyH_take (i := 5) (oi := ({ dst := some 119, op := Op.move (Operand.tmp 124), type := 30, pos := "exact.go:3533", after := #[{ on := 4, ground := Ground.data }], guard := none } : Oper)) (v := ?tv7) rfl (by kernel_rfl) (by kernel_rfl) (by kernel_rfl) (fun _ _ _ h => h) (Or.inl ⟨by rfl, ?ty7⟩) (by assumption) ?tr7
        case ty7 => (intro w hSw; (try dsimp only at hSw); (try obtain ⟨s0, s1, s2, s3, s4, s5, s6⟩ := hSw); go_simp <;> with_reducible rfl)
        simp only [Act.put, List.setIfInBounds_toArray, List.set_cons_zero, List.set_cons_succ]
        refine wpAnyH_take (i := 6) (oi := ({ dst := some 125, op := Op.extract (Operand.tmp 119) 0, type := 29, pos := "exact.go:3533", after := #[{ on := 5, ground := Ground.data }], guard := none } : Oper)) (v := ?tv8) rfl (by kernel_rfl) (by kernel_rfl) (by kernel_rfl) (fun _ _ _ h => h) (Or.inl ⟨by rfl, ?ty8⟩) (by assumption) ?tr8
        case ty8 => (intro w hSw; (try dsimp only at hSw); (try obtain ⟨s0, s1, s2, s3, s4, s5, s6⟩ := hSw); go_simp <;> with_reducible rfl)
        simp only [Act.put, List.setIfInBounds_toArray, List.set_cons_zero, List.set_cons_succ]
        refine wpAnyH_take (i := 7) (oi := ({ dst := some 126, op := Op.extract (Operand.tmp 119) 1, type := 22, pos := "exact.go:3533", after := #[{ on := 5, ground := Ground.data }, { on := 10, ground := Ground.gcOnly Departure.lateStores }], guard := none } : Oper)) (v := ?tv9) rfl (by kernel_rfl) (by kernel_rfl) (by kernel_rfl) (fun _ _ _ h => h) (Or.inl ⟨by rfl, ?ty9⟩) (by assumption) ?tr9
        case ty9 => (intro w hSw; (try dsimp only at hSw); (try obtain ⟨s0, s1, s2, s3, s4, s5, s6⟩ := hSw); go_simp <;> with_reducible rfl)
        simp only [Act.put, List.setIfInBounds_toArray, List.set_cons_zero, List.set_cons_succ]
        refine wpAnyH_take (i := 8) (oi := ({ dst := some 127, op := Op.extract (Operand.tmp 119) 2, type := 3, pos := "exact.go:3533", after := #[{ on := 5, ground := Ground.data }, { on := 11, ground := Ground.gcOnly Departure.lateStores }], guard := none } : Oper)) (v := ?tv10) rfl (by kernel_rfl) (by kernel_rfl) (by kernel_rfl) (fun _ _ _ h => h) (Or.inl ⟨by rfl, ?ty10⟩) (by assumption) ?tr10
        case ty10 => (intro w hSw; (try dsimp only at hSw); (try obtain ⟨s0, s1, s2, s3, s4, s5, s6⟩ := hSw); go_simp <;> with_reducible rfl)
        simp only [Act.put, List.setIfInBounds_toArray, List.set_cons_zero, List.set_cons_succ]
        have hy1 := hbg.size
        have hy0 : x20.drew.heap.size = x20.heap.size := rfl
        have bx : Box3 Yc Ya.heap.size 29 (.int .i64 0) (.bool false) (.slice none 0 0) := ((Box3.new Ya 29 (.int .i64 0) (.bool false) (.slice none 0 0)).stays hbf).stays hbw
        have hsA : (Ya.alloc (.cells #[.int .i64 0, .bool false, .slice none 0 0] 29)).heap.size = Ya.heap.size + 1 := World.size_alloc _ _
        refine wpAnyH_ready (rs := [10]) (by kernel_rfl) (by simp) ?_
        refine (AllReadyH.cons (o := ({ dst := none, op := Op.store 29 (Operand.tmp 17) (Operand.tmp 125), type := 0, pos := "exact.go:3533", after := #[{ on := 9, ground := Ground.data }, { on := 6, ground := Ground.data }, { on := 4, ground := Ground.chain }, { on := 0, ground := Ground.phase }, { on := 1, ground := Ground.phase }, { on := 2, ground := Ground.phase }, { on := 3, ground := Ground.phase }, { on := 4, ground := Ground.phase }, { on := 5, ground := Ground.phase }, { on := 6, ground := Ground.phase }, { on := 7, ground := Ground.textOnly Departure.lateStores }, { on := 8, ground := Ground.textOnly Departure.lateStores }, { on := 9, ground := Ground.phase }], guard := none } : Oper)) rfl (fun K hK => ?_) AllReadyH.nil)
        obtain ⟨g0, g1, g2⟩ := (bx).cells
        have f0 := (bx).frozen 0
        have f1 := (bx).frozen 1
        have f2 := (bx).frozen 2
        have hbS : Below x20.heap.size x20 (((Yc.setCell ⟨Ya.heap.size, 0, none⟩ (.int .i64 S)).setCell ⟨Ya.heap.size, 1, none⟩ (.bool EN)).setCell ⟨Ya.heap.size, 2, none⟩ (.slice wa L1 cw)) := ((hbYc.setCell (p := ⟨Ya.heap.size, 0, none⟩) (by show x20.heap.size ≤ Ya.heap.size; omega) _).setCell (p := ⟨Ya.heap.size, 1, none⟩) (by show x20.heap.size ≤ Ya.heap.size; omega) _).setCell (p := ⟨Ya.heap.size, 2, none⟩) (by show x20.heap.size ≤ Ya.heap.size; omega) _
        go_simp
        refine hK.out _ _ (HS7.out _ hbS) (fun hHeld => ?_)
        clear hK K
        try simp only [Act.put, List.setIfInBounds_toArray, List.set_cons_zero, List.set_cons_succ]
        refine wpAnyH_take (i := 11) (oi := ({ dst := some 18, op := Op.assign (Operand.tmp 126), type := 22, pos := "exact.go:3533", after := #[{ on := 7, ground := Ground.data }, { on := 10, ground := Ground.chain }, { on := 0, ground := Ground.phase }, { on := 1, ground := Ground.phase }, { on := 2, ground := Ground.phase }, { on := 3, ground := Ground.phase }, { on := 4, ground := Ground.phase }, { on := 5, ground := Ground.phase }, { on := 6, ground := Ground.phase }, { on := 7, ground := Ground.phase }, { on := 8, ground := Ground.textOnly Departure.lateStores }, { on := 9, ground := Ground.phase }, { on := 10, ground := Ground.phase }], guard := none } : Oper)) (v := ?tv11) rfl (by kernel_rfl) (by kernel_rfl) (by kernel_rfl) (fun _ _ _ h => h) (Or.inl ⟨by rfl, ?ty11⟩) (by assumption) ?tr11
        case ty11 => (intro w hSw; (try dsimp only at hSw); (try obtain ⟨s0, s1, s2, s3, s4, s5, s6⟩ := hSw); go_simp <;> with_reducible rfl)
        simp only [Act.put, List.setIfInBounds_toArray, List.set_cons_zero, List.set_cons_succ]
        refine wpAnyH_take (i := 12) (oi := ({ dst := some 19, op := Op.assign (Operand.tmp 127), type := 3, pos := "exact.go:3533", after := #[{ on := 8, ground := Ground.data }, { on := 11, ground := Ground.chain }, { on := 0, ground := Ground.phase }, { on := 1, ground := Ground.phase }, { on := 2, ground := Ground.phase }, { on := 3, ground := Ground.phase }, { on := 4, ground := Ground.phase }, { on := 5, ground := Ground.phase }, { on := 6, ground := Ground.phase }, { on := 7, ground := Ground.phase }, { on := 8, ground := Ground.phase }, { on := 9, ground := Ground.phase }, { on := 10, ground := Ground.phase }, { on := 11, ground := Ground.phase }], guard := none } : Oper)) (v := ?tv12) rfl (by kernel_rfl) (by kernel_rfl) (by kernel_rfl) (fun _ _ _ h => h) (Or.inl ⟨by rfl, ?ty12⟩) (by assumption) ?tr12
        case ty12 => (intro w hSw; (try dsimp only at hSw); (try obtain ⟨s0, s1, s2, s3, s4, s5, s6⟩ := hSw); go_simp <;> with_reducible rfl)
        simp only [Act.put, List.setIfInBounds_toArray, List.set_cons_zero, List.set_cons_succ]
        refine wpAnyH_done (by kernel_rfl) ?_ _
        refine NoPanic.normal ?_
        clear hHeld
        go_wp2_with fail
        go_meet
        exact ⟨Ya.heap.size, wa, cw, wb, cwb, rfl, rfl, rfl, AnsAt.store bx ow1 ow2 hpt (by have h2 := hbf.size; omega) (by omega), hbS⟩
    · have hbA : Below x20.heap.size x20 (x20.drew.alloc (.cells #[.int .i64 0, .bool false, .slice none 0 0] 29)) := ((Below.refl x20.heap.size x20).drew).alloc ((Below.refl x20.heap.size x20).drew).size _
      go_simp
      refine hK.out _ _ (HS7.out _ hbA) (fun hHeld => ?_)
      clear hK K
      try simp only [Act.put, List.setIfInBounds_toArray, List.set_cons_zero, List.set_cons_succ]
      refine wpAnyH_ready (rs := [1]) (by kernel_rfl) (by simp) ?_
      refine (AllReadyH.cons (o := ({ dst := some 121, op := Op.call { callee := Callee.value (Operand.func 7), args := #[Operand.tmp 120], argTypes := #[24] }, type := 29, pos := "exact.go:3533", after := #[{ on := 0, ground := Ground.data }], guard := none } : Oper)) rfl (fun K hK => ?_) AllReadyH.nil)
      go_simp
      refine (toGather_any s en a0 n0 cap0 zs _ (HQ.out _ hbA).2.2.2.1 hn).mono ?_
      rintro e Ya ⟨gg, rfl, hgg, ogg, hbg⟩
      have hbYa : Below x20.heap.size x20 Ya := (hbA).trans (hbg.mono (hbA).size)
      go_wp2_with fail
      refine hK.out _ _ (HS7.out _ hbYa) (fun hHeld => ?_)
      clear hK K
      try simp only [Act.put, List.setIfInBounds_toArray, List.set_cons_zero, List.set_cons_succ]
      refine wpAnyH_ready (rs := [3]) (by kernel_rfl) (by simp) ?_
      refine (AllReadyH.cons (o := ({ dst := some 123, op := Op.call { callee := Callee.value (Operand.func 8), args := #[Operand.tmp 122], argTypes := #[26] }, type := 33, pos := "exact.go:3533", after := #[{ on := 2, ground := Ground.data }, { on := 1, ground := Ground.chain }], guard := none } : Oper)) rfl (fun K hK => ?_) AllReadyH.nil)
      go_simp
      refine (toFrame_any k f fs b0 m0 capb0 ys _ (HQ.out _ hbYa).2.2.2.2.1 hm).mono ?_
      rintro e Yb ⟨gf, rfl, hgf, ogf, hbf⟩
      have hbYb : Below x20.heap.size x20 Yb := (hbYa).trans (hbf.mono (hbYa).size)
      go_wp2_with fail
      refine hK.out _ _ (HS7.out _ hbYb) (fun hHeld => ?_)
      clear hK K
      try simp only [Act.put, List.setIfInBounds_toArray, List.set_cons_zero, List.set_cons_succ]
      refine wpAnyH_ready (rs := [4]) (by kernel_rfl) (by simp) ?_
      refine (AllReadyH.cons (o := ({ dst := some 124, op := Op.call { callee := Callee.value (Operand.func 9), args := #[Operand.tmp 121, Operand.tmp 123], argTypes := #[29, 33] }, type := 30, pos := "exact.go:3533", after := #[{ on := 1, ground := Ground.data }, { on := 3, ground := Ground.data }, { on := 3, ground := Ground.chain }], guard := none } : Oper)) rfl (fun K hK => ?_) AllReadyH.nil)
      go_simp
      refine (implFeed_any s en (some ⟨gg, 0, none⟩) n0 n0 zs k f fs (some ⟨gf, 0, none⟩) m0 m0 ys _ (ogg.below hbf).seg (ogf).seg ⟨_, rfl⟩ (Nat.le_refl _) hn hm (HQ.out _ hbYb).2.2.2.2.2 ((S, EN, Z1), Z2, C) HR.out L1 L2 HL1.out HL2.out).mono ?_
      rintro e Yc ⟨wa, cw, wb, cwb, rfl, ow1, ow2, hpt, hbw⟩
      have hbYc : Below x20.heap.size x20 Yc := (hbYb).trans (hbw.mono (hbYb).size)
      go_wp2_with fail
      refine hK.out _ _ (HS7.out _ hbYc) (fun hHeld => ?_)
      clear hK K
      try simp only [Act.put, List.setIfInBounds_toArray, List.set_cons_zero, List.set_cons_succ]
      refine wpAnyH_take (i := 5) (oi := ({ dst := some 119, op := Op.move (Operand.tmp 124), type := 30, pos := "exact.go:3533", after := #[{ on := 4, ground := Ground.data }], guard := none } : Oper)) (v := ?tv1) rfl (by kernel_rfl) (by kernel_rfl) (by kernel_rfl) (fun _ _ _ h => h) (Or.inl ⟨by rfl, ?ty1⟩) (by assumption) ?tr1
      case ty1 => (intro w hSw; (try dsimp only at hSw); (try obtain ⟨s0, s1, s2, s3, s4, s5, s6⟩ := hSw); go_simp <;> with_reducible rfl)
      simp only [Act.put, List.setIfInBounds_toArray, List.set_cons_zero, List.set_cons_succ]
      refine wpAnyH_take (i := 6) (oi := ({ dst := some 125, op := Op.extract (Operand.tmp 119) 0, type := 29, pos := "exact.go:3533", after := #[{ on := 5, ground := Ground.data }], guard := none } : Oper)) (v := ?tv2) rfl (by kernel_rfl) (by kernel_rfl) (by kernel_rfl) (fun _ _ _ h => h) (Or.inl ⟨by rfl, ?ty2⟩) (by assumption) ?tr2
      case ty2 => (intro w hSw; (try dsimp only at hSw); (try obtain ⟨s0, s1, s2, s3, s4, s5, s6⟩ := hSw); go_simp <;> with_reducible rfl)
      simp only [Act.put, List.setIfInBounds_toArray, List.set_cons_zero, List.set_cons_succ]
      refine wpAnyH_take (i := 7) (oi := ({ dst := some 126, op := Op.extract (Operand.tmp 119) 1, type := 22, pos := "exact.go:3533", after := #[{ on := 5, ground := Ground.data }, { on := 10, ground := Ground.gcOnly Departure.lateStores }], guard := none } : Oper)) (v := ?tv3) rfl (by kernel_rfl) (by kernel_rfl) (by kernel_rfl) (fun _ _ _ h => h) (Or.inl ⟨by rfl, ?ty3⟩) (by assumption) ?tr3
      case ty3 => (intro w hSw; (try dsimp only at hSw); (try obtain ⟨s0, s1, s2, s3, s4, s5, s6⟩ := hSw); go_simp <;> with_reducible rfl)
      simp only [Act.put, List.setIfInBounds_toArray, List.set_cons_zero, List.set_cons_succ]
      refine wpAnyH_take (i := 8) (oi := ({ dst := some 127, op := Op.extract (Operand.tmp 119) 2, type := 3, pos := "exact.go:3533", after := #[{ on := 5, ground := Ground.data }, { on := 11, ground := Ground.gcOnly Departure.lateStores }], guard := none } : Oper)) (v := ?tv4) rfl (by kernel_rfl) (by kernel_rfl) (by kernel_rfl) (fun _ _ _ h => h) (Or.inl ⟨by rfl, ?ty4⟩) (by assumption) ?tr4
      case ty4 => (intro w hSw; (try dsimp only at hSw); (try obtain ⟨s0, s1, s2, s3, s4, s5, s6⟩ := hSw); go_simp <;> with_reducible rfl)
      simp only [Act.put, List.setIfInBounds_toArray, List.set_cons_zero, List.set_cons_succ]
      have bx : Box3 Yc x20.heap.size 29 (.int .i64 0) (.bool false) (.slice none 0 0) := (((Box3.new x20.drew 29 (.int .i64 0) (.bool false) (.slice none 0 0)).stays hbg).stays hbf).stays hbw
      have hsA : (x20.drew.alloc (.cells #[.int .i64 0, .bool false, .slice none 0 0] 29)).heap.size = x20.heap.size + 1 := by rw [World.size_alloc]; rfl
      refine wpAnyH_ready (rs := [10]) (by kernel_rfl) (by simp) ?_
      refine (AllReadyH.cons (o := ({ dst := none, op := Op.store 29 (Operand.tmp 17) (Operand.tmp 125), type := 0, pos := "exact.go:3533", after := #[{ on := 9, ground := Ground.data }, { on := 6, ground := Ground.data }, { on := 4, ground := Ground.chain }, { on := 0, ground := Ground.phase }, { on := 1, ground := Ground.phase }, { on := 2, ground := Ground.phase }, { on := 3, ground := Ground.phase }, { on := 4, ground := Ground.phase }, { on := 5, ground := Ground.phase }, { on := 6, ground := Ground.phase }, { on := 7, ground := Ground.textOnly Departure.lateStores }, { on := 8, ground := Ground.textOnly Departure.lateStores }, { on := 9, ground := Ground.phase }], guard := none } : Oper)) rfl (fun K hK => ?_) AllReadyH.nil)
      obtain ⟨g0, g1, g2⟩ := (bx).cells
      have f0 := (bx).frozen 0
      have f1 := (bx).frozen 1
      have f2 := (bx).frozen 2
      have hbS : Below x20.heap.size x20 (((Yc.setCell ⟨x20.heap.size, 0, none⟩ (.int .i64 S)).setCell ⟨x20.heap.size, 1, none⟩ (.bool EN)).setCell ⟨x20.heap.size, 2, none⟩ (.slice wa L1 cw)) := ((hbYc.setCell (p := ⟨x20.heap.size, 0, none⟩) (by show x20.heap.size ≤ x20.heap.size; omega) _).setCell (p := ⟨x20.heap.size, 1, none⟩) (by show x20.heap.size ≤ x20.heap.size; omega) _).setCell (p := ⟨x20.heap.size, 2, none⟩) (by show x20.heap.size ≤ x20.heap.size; omega) _
      go_simp
      refine hK.out _ _ (HS7.out _ hbS) (fun hHeld => ?_)
      clear hK K
      try simp only [Act.put, List.setIfInBounds_toArray, List.set_cons_zero, List.set_cons_succ]
      refine wpAnyH_take (i := 11) (oi := ({ dst := some 18, op := Op.assign (Operand.tmp 126), type := 22, pos := "exact.go:3533", after := #[{ on := 7, ground := Ground.data }, { on := 10, ground := Ground.chain }, { on := 0, ground := Ground.phase }, { on := 1, ground := Ground.phase }, { on := 2, ground := Ground.phase }, { on := 3, ground := Ground.phase }, { on := 4, ground := Ground.phase }, { on := 5, ground := Ground.phase }, { on := 6, ground := Ground.phase }, { on := 7, ground := Ground.phase }, { on := 8, ground := Ground.textOnly Departure.lateStores }, { on := 9, ground := Ground.phase }, { on := 10, ground := Ground.phase }], guard := none } : Oper)) (v := ?tv5) rfl (by kernel_rfl) (by kernel_rfl) (by kernel_rfl) (fun _ _ _ h => h) (Or.inl ⟨by rfl, ?ty5⟩) (by assumption) ?tr5
      case ty5 => (intro w hSw; (try dsimp only at hSw); (try obtain ⟨s0, s1, s2, s3, s4, s5, s6⟩ := hSw); go_simp <;> with_reducible rfl)
      simp only [Act.put, List.setIfInBounds_toArray, List.set_cons_zero, List.set_cons_succ]
      refine wpAnyH_take (i := 12) (oi := ({ dst := some 19, op := Op.assign (Operand.tmp 127), type := 3, pos := "exact.go:3533", after := #[{ on := 8, ground := Ground.data }, { on := 11, ground := Ground.chain }, { on := 0, ground := Ground.phase }, { on := 1, ground := Ground.phase }, { on := 2, ground := Ground.phase }, { on := 3, ground := Ground.phase }, { on := 4, ground := Ground.phase }, { on := 5, ground := Ground.phase }, { on := 6, ground := Ground.phase }, { on := 7, ground := Ground.phase }, { on := 8, ground := Ground.phase }, { on := 9, ground := Ground.phase }, { on := 10, ground := Ground.phase }, { on := 11, ground := Ground.phase }], guard := none } : Oper)) (v := ?tv6) rfl (by kernel_rfl) (by kernel_rfl) (by kernel_rfl) (fun _ _ _ h => h) (Or.inl ⟨by rfl, ?ty6⟩) (by assumption) ?tr6
      case ty6 => (intro w hSw; (try dsimp only at hSw); (try obtain ⟨s0, s1, s2, s3, s4, s5, s6⟩ := hSw); go_simp <;> with_reducible rfl)
      simp only [Act.put, List.setIfInBounds_toArray, List.set_cons_zero, List.set_cons_succ]
      refine wpAnyH_done (by kernel_rfl) ?_ _
      refine NoPanic.normal ?_
      clear hHeld
      go_wp2_with fail
      go_meet
      exact ⟨x20.heap.size, wa, cw, wb, cwb, rfl, rfl, rfl, AnsAt.store bx ow1 ow2 hpt (by have h1 := hbg.size; have h2 := hbf.size; omega) (Nat.le_refl _), hbS⟩
  case rest =>
  obtain ⟨bh, ha, ch, hb, chb, rfl, rfl, rfl, HAh, HBc⟩ := hcut
  obtain ⟨x21, hx21⟩ : ∃ x21, wc = x21 := ⟨_, rfl⟩
  rw [hx21] at HAh HBc ⊢
  clear hx21 HS7 HQ20
  have HA21 : Hid (AnsAt x21 x1.heap.size bw S EN wa L1 cw Z1 wb L2 cwb Z2) := HA20.out.stays HBc.out
  obtain ⟨c0, c1, c2⟩ := HA21.out.1.cells
  obtain ⟨e0, e1, e2⟩ := HAh.out.1.cells
  go_wp2_with fail
  refine (eqGather_same S EN ha wa L1 ch cw Z1 _ HAh.out.2.1.seg HA21.out.2.1.seg (by omega)).mono ?_
  rintro e x22 ⟨rfl, hb22⟩
  have HB22 : Hid (Below x21.heap.size x21 x22) := hb22
  clear hb22 c0 c1 c2 e0 e1 e2
  go_wp2_with fail
  refine (eqByteS_same hb wb L2 chb cwb Z2 _ (HAh.out.stays HB22.out).2.2.1.seg (HA21.out.stays HB22.out).2.2.1.seg (by omega)).mono ?_
  rintro e x23 ⟨rfl, st23⟩
  have hb23 : Below x21.heap.size x21 x23 := Still.below st23 HB22.out
  have HB23 : Hid (Below x20.heap.size x20 x23) := HBc.out.trans (hb23.mono HBc.out.size)
  have HG23 : Hid (AnsAt x23 x6.heap.size b11 S EN ga L1 gc (marks 1 L1) gb L2 gcb (marks N3 L2)) := HG20.out.stays HB23.out
  clear st23 hb23 HB22 HAh HBc HA21 HA20 HG20
  obtain ⟨e0, e1, e2⟩ := HG23.out.1.cells
  go_wp2_with fail
  refine (HHG.out _ HG23.out.2.1).mono ?_
  rintro e x24 ⟨rfl, hb24⟩
  have HB24 : Hid (Below x23.heap.size x23 x24) := hb24
  clear hb24 e0 e1 e2
  go_wp2_with fail
  refine (HHB.out _ (HG23.out.stays HB24.out).2.2.1).mono ?_
  rintro e x25 ⟨rfl, hx25⟩
  subst hx25
  have HF : Hid (Below w.heap.size w x25) := (HQ.out _ (HB23.out.trans (HB24.out.mono HB23.out.size))).2.2.1
  clear HB24 HG23
  go_wp2_with fail
  go_ret
  exact ⟨rfl, HF.out⟩

end Go.Proofs.YtckpacifimpkgaoDoor
