/- What the program's Feed answers where the frame is no part; nothing that was there is written. -/
import Derived.Test.YtpjldfpipchmjadDoorFeedA
namespace Go.Proofs.YtpjldfpipchmjadDoor
open Go.RowKit
set_option linter.unusedVariables false

set_option maxRecDepth 10000 in
set_option maxHeartbeats 6400000 in
theorem feed_err (s : Int) (en : Bool) (a : Option Addr) (n cap : Nat) (zs : List Int) (k f fs : Int) (b : Option Addr) (m capb : Nat) (w : World) (hg : Seg w a n zs) (hl : n ≤ 1048576) (he : ErrT w) (c : Int) (HG : ∀ X, Below w.heap.size w X → Calls Tryd.prog 34 #[.agg #[.int .i64 s, .bool en, .slice a n cap], .agg #[.int .i64 k, .int .i64 f, .int .i64 fs, .slice b m capb]] X fun e w' => e = .returned (.tuple #[.agg #[.int .i64 0, .bool false, .slice none 0 0], .iface 63 (.agg #[.int .i64 c])]) ∧ Below X.heap.size X w') :
    Calls Tryd.prog 12 #[.agg #[.int .i64 s, .bool en, .slice a n cap], .agg #[.int .i64 k, .int .i64 f, .int .i64 fs, .slice b m capb]] w fun e w' => ∃ a' c' a2 c2, e = .returned (.tuple #[.agg #[.int .i64 s, .bool en, .slice a' n c'], .slice a2 0 c2, .int .i64 c]) ∧ Owns w' w.heap.size a' n c' zs ∧ Owns w' w.heap.size a2 0 c2 [] ∧ Parts2 a' a2 ∧ Below w.heap.size w w' := by
  have HGr := (show Hid _ from HG)
  clear HG
  have HSg : Hid (Seg w a n zs) := hg
  obtain ⟨W3, hW3⟩ : ∃ W3, ((w.alloc (.cells #[.int .i64 s, .bool en, .slice a n cap] 30)).alloc (.cells #[.int .i64 k, .int .i64 f, .int .i64 fs, .slice b m capb] 33)).alloc (.cells #[.int .i64 0, .bool false, .slice none 0 0] 30) = W3 := ⟨_, rfl⟩
  have q1 : Box3 W3 w.heap.size 30 (.int .i64 s) (.bool en) (.slice a n cap) := by rw [← hW3]; exact ((Box3.new _ _ _ _ _).alloc _).alloc _
  have q2 : Box4 W3 (w.heap.size + 1) 33 (.int .i64 k) (.int .i64 f) (.int .i64 fs) (.slice b m capb) := by
    rw [← hW3]
    have := (Box4.new (w.alloc (.cells #[.int .i64 s, .bool en, .slice a n cap] 30)) 33 (.int .i64 k) (.int .i64 f) (.int .i64 fs) (.slice b m capb)).alloc (.cells #[.int .i64 0, .bool false, .slice none 0 0] 30)
    rwa [World.size_alloc] at this
  have q3 : Box3 W3 (w.heap.size + 1 + 1) 30 (.int .i64 0) (.bool false) (.slice none 0 0) := by
    rw [← hW3]
    have := Box3.new ((w.alloc (.cells #[.int .i64 s, .bool en, .slice a n cap] 30)).alloc (.cells #[.int .i64 k, .int .i64 f, .int .i64 fs, .slice b m capb] 33)) 30 (.int .i64 0) (.bool false) (.slice none 0 0)
    rwa [World.size_alloc, World.size_alloc] at this
  have HB3 : Hid (Below w.heap.size w W3) := by show Below _ _ _; rw [← hW3]; exact (((Below.refl _ _).alloc (Nat.le_refl _) _).alloc (by simp) _).alloc (by simp; omega) _
  have HZ3 : Hid (W3.heap.size = w.heap.size + 3) := by show _ = _; rw [← hW3]; simp
  have HQ : Hid (∀ W, Below W3.heap.size W3 W → Box3 W w.heap.size 30 (.int .i64 s) (.bool en) (.slice a n cap) ∧ Box4 W (w.heap.size + 1) 33 (.int .i64 k) (.int .i64 f) (.int .i64 fs) (.slice b m capb) ∧ Box3 W (w.heap.size + 1 + 1) 30 (.int .i64 0) (.bool false) (.slice none 0 0) ∧ Below w.heap.size w W ∧ Seg W a n zs) := fun W h => by
    have hw : Below w.heap.size w W := HB3.out.trans (h.mono HB3.out.size)
    exact ⟨q1.stays h, q2.stays h, q3.stays h, hw, HSg.out.below hw⟩
  have HE3 : Hid (((w.alloc (.cells #[.int .i64 s, .bool en, .slice a n cap] 30)).alloc (.cells #[.int .i64 k, .int .i64 f, .int .i64 fs, .slice b m capb] 33)).alloc (.cells #[.int .i64 0, .bool false, .slice none 0 0] 30) = W3) := hW3
  have HT : Hid (∀ W, Below w.heap.size w W → ErrT W) := fun W h => errT_below he h
  clear hW3 q1 q2 q3 hg he
  go_enter Tryd.func12, Tryd.ntmps12
  go_upto_region 1 with fail
  rw [HE3.out]
  obtain ⟨c0, c1, c2⟩ := (HQ.out _ (Below.refl _ _)).1.cells
  obtain ⟨d0, d1, d2, d3⟩ := (HQ.out _ (Below.refl _ _)).2.1.cells
  go_wp2_with fail
  refine (HGr.out W3 HB3.out).mono ?_
  rintro e x1 ⟨rfl, hb1⟩
  have HX1 : Hid (Below W3.heap.size W3 x1) := hb1
  clear hb1 c0 c1 c2 d0 d1 d2 d3 HE3 HGr
  go_upto_region 3 with fail
  obtain ⟨V, hV⟩ : ∃ V, (x1.alloc (.cells #[.int .i64 0, .bool false, .slice none 0 0] 30)).alloc (.cells #[.int .i64 0] 63) = V := ⟨_, rfl⟩
  have hz := HZ3.out
  have hz1 := HX1.out.size
  have HXV : Hid (Below W3.heap.size W3 V) := by show Below _ _ _; rw [← hV]; exact (HX1.out.alloc (by omega) _).alloc (by simp; omega) _
  have HVs : Hid (V.heap.size = x1.heap.size + 2) := by show _ = _; rw [← hV]; simp
  have HFb : Hid (Boxed V (x1.heap.size + 1) 63 (.int .i64 0)) := by
    show Boxed _ _ _ _
    rw [← hV]
    have := Boxed.new (x1.alloc (.cells #[.int .i64 0, .bool false, .slice none 0 0] 30)) 63 (.int .i64 0)
    rwa [World.size_alloc] at this
  rw [hV]
  clear hV
  generalize x1.heap.size = nb at *
  go_wp2_with fail
  refine (as_hit c ⟨nb + 1, 0, none⟩ (.int .i64 0) V (HT.out V (HQ.out _ HXV.out).2.2.2.1) HFb.out.cell HFb.out.frozen).mono ?_
  rintro e x2 ⟨rfl, hx2⟩
  have hvs := HVs.out
  have HX2 : Hid (Below W3.heap.size W3 x2 ∧ x2.cell? ⟨nb + 1, 0, none⟩ = some (.int .i64 c) ∧ V.heap.size ≤ x2.heap.size) := by
    rw [hx2]
    have hb0 : Below V.heap.size V (((V.alloc (.cells #[.pointer (some ⟨nb + 1, 0, none⟩)] 65)).alloc (.cells #[.pointer (some ⟨2, 65, none⟩), .pointer (some ⟨V.heap.size, 0, none⟩), .int .u64 150] 86)).alloc (.cells #[.pointer (some ⟨2, 65, none⟩), .pointer (some ⟨V.heap.size, 0, none⟩), .int .u64 150] 86)) := (((Below.refl _ _).alloc (Nat.le_refl _) _).alloc (by simp) _).alloc (by simp; omega) _
    have hb1 := hb0.alloc (o := .cells #[.int .i64 c] 63) hb0.size
    refine ⟨(HXV.out.trans (hb1.mono HXV.out.size)).setCell (p := ⟨nb + 1, 0, none⟩) (by show W3.heap.size ≤ nb + 1; omega) _, ?_, ?_⟩
    · exact (Boxed.set _ ((hb1.block _ HFb.out.lt).trans HFb.out : Boxed _ (nb + 1) 63 (.int .i64 0))).cell
    · have := hb1.size
      simp only [World.size_setCell]
      exact this
  clear hx2 HXV HFb
  obtain ⟨hx2b, hx2c, hx2s⟩ := HX2.out
  obtain ⟨c0, c1, c2⟩ := (HQ.out _ hx2b).1.cells
  obtain ⟨g0, g1, g2⟩ := (HQ.out _ hx2b).2.2.1.cells
  have HKp : Hid (∀ W, Below x2.heap.size x2 W → (W.cell? ⟨w.heap.size, 0, none⟩ = some (.int .i64 s) ∧ W.cell? ⟨w.heap.size, 1, none⟩ = some (.bool en) ∧ W.cell? ⟨w.heap.size, 2, none⟩ = some (.slice a n cap) ∧ W.cell? ⟨nb + 1, 0, none⟩ = some (.int .i64 c)) ∧ Box3 W (w.heap.size + 1 + 1) 30 (.int .i64 0) (.bool false) (.slice none 0 0)) := fun W hW => by
    have hq := HQ.out W (hx2b.trans (hW.mono hx2b.size))
    obtain ⟨p0, p1, p2⟩ := hq.1.cells
    exact ⟨⟨p0, p1, p2, (hW.cell (p := ⟨nb + 1, 0, none⟩) (lt_of_cell hx2c)).trans hx2c⟩, hq.2.2.1⟩
  have hn1 : w.heap.size ≠ w.heap.size + 1 + 1 := by omega
  have hn2 : nb + 1 ≠ w.heap.size + 1 + 1 := by omega
  go_upto_region 4 with fail
  have hws : w.heap.size + 3 ≤ x2.heap.size := by omega
  clear g0 g1 g2 HB3 HSg HVs hvs hz hz1 hx2s
  refine wp_region_noPanic ?_
  refine wp_region_held_drew (S := fun W => W.cell? ⟨w.heap.size, 0, none⟩ = some (.int .i64 s) ∧ W.cell? ⟨w.heap.size, 1, none⟩ = some (.bool en) ∧ W.cell? ⟨w.heap.size, 2, none⟩ = some (.slice a n cap) ∧ W.cell? ⟨nb + 1, 0, none⟩ = some (.int .i64 c)) (by kernel_rfl) ⟨c0, c1, c2, hx2c⟩ (fun hHeld => ?_)
  refine wpAnyH_take (i := 0) (oi := ({ dst := some 19, op := Op.load 30 (Operand.tmp 2), type := 30, pos := "l08_gather.go:45", after := #[], guard := none } : Oper)) (v := ?tv7) rfl (by kernel_rfl) (by kernel_rfl) (by kernel_rfl) (fun _ _ _ h => h) (Or.inl ⟨by rfl, ?ty7⟩) (by assumption) ?tr7
  case ty7 => (intro w hSw; (try dsimp only at hSw); (try obtain ⟨s0, s1, s2, s3⟩ := hSw); go_simp <;> with_reducible rfl)
  simp only [Act.put, List.setIfInBounds_toArray, List.set_cons_zero, List.set_cons_succ]
  refine wpAnyH_take (i := 3) (oi := ({ dst := some 22, op := Op.fieldAddr 63 (Operand.tmp 9) 0, type := 0, pos := "l08_gather.go:45", after := #[{ on := 6, ground := Ground.gcOnly Departure.lateStores }], guard := none } : Oper)) (v := ?tv8) rfl (by kernel_rfl) (by kernel_rfl) (by kernel_rfl) (fun _ _ _ h => h) (Or.inl ⟨by rfl, ?ty8⟩) (by assumption) ?tr8
  case ty8 => (intro w hSw; (try dsimp only at hSw); (try obtain ⟨s0, s1, s2, s3⟩ := hSw); go_simp <;> with_reducible rfl)
  simp only [Act.put, List.setIfInBounds_toArray, List.set_cons_zero, List.set_cons_succ]
  refine wpAnyH_take (i := 4) (oi := ({ dst := some 23, op := Op.load 3 (Operand.tmp 22), type := 3, pos := "l08_gather.go:45", after := #[{ on := 3, ground := Ground.data }, { on := 6, ground := Ground.gcOnly Departure.lateStores }], guard := none } : Oper)) (v := ?tv9) rfl (by kernel_rfl) (by kernel_rfl) (by kernel_rfl) (fun _ _ _ h => h) (Or.inl ⟨by rfl, ?ty9⟩) (by assumption) ?tr9
  case ty9 => (intro w hSw; (try dsimp only at hSw); (try obtain ⟨s0, s1, s2, s3⟩ := hSw); go_simp <;> with_reducible rfl)
  simp only [Act.put, List.setIfInBounds_toArray, List.set_cons_zero, List.set_cons_succ]
  refine wpAnyH_ready (rs := [1, 2]) (by kernel_rfl) (by simp) ?_
  refine (AllReadyH.cons (o := ({ dst := some 20, op := Op.call { callee := Callee.value (Operand.func 36), args := #[Operand.tmp 19], argTypes := #[30] }, type := 30, pos := "l08_gather.go:45", after := #[{ on := 0, ground := Ground.data }], guard := none } : Oper)) rfl (fun K hK => ?_) (AllReadyH.cons (o := ({ dst := some 21, op := Op.buildSlice 22 0 #[], type := 22, pos := "l08_gather.go:45", after := #[{ on := 5, ground := Ground.gcOnly Departure.lateStores }], guard := none } : Oper)) rfl (fun K hK => ?_) AllReadyH.nil))
  · go_simp
    refine (copyGa_any s en a n cap zs _ (HQ.out _ hx2b.drew).2.2.2.2 hl).mono ?_
    rintro e Y ⟨a4, k4, rfl, og, hb4⟩
    have hb4' : Below x2.heap.size x2 Y := (Below.refl x2.heap.size x2).drew.trans (hb4.mono (Nat.le_refl _))
    have hlo : x2.heap.size ≤ x2.drew.heap.size := Nat.le_refl _
    obtain ⟨⟨p0, p1, p2, p3⟩, pr⟩ := HKp.out _ hb4'
    go_wp2_with fail
    refine hK.out _ _ (⟨p0, p1, p2, p3⟩) (fun hHeld => ?_)
    clear hK K
    try simp only [Act.put, List.setIfInBounds_toArray, List.set_cons_zero, List.set_cons_succ]
    refine wpAnyH_ready (rs := [2, 5]) (by kernel_rfl) (by simp) ?_
    refine (AllReadyH.cons (o := ({ dst := some 21, op := Op.buildSlice 22 0 #[], type := 22, pos := "l08_gather.go:45", after := #[{ on := 5, ground := Ground.gcOnly Departure.lateStores }], guard := none } : Oper)) rfl (fun K hK => ?_) (AllReadyH.cons (o := ({ dst := none, op := Op.store 30 (Operand.tmp 4) (Operand.tmp 20), type := 0, pos := "l08_gather.go:45", after := #[{ on := 1, ground := Ground.data }, { on := 1, ground := Ground.chain }, { on := 0, ground := Ground.phase }, { on := 1, ground := Ground.phase }, { on := 2, ground := Ground.textOnly Departure.lateStores }, { on := 3, ground := Ground.textOnly Departure.lateStores }, { on := 4, ground := Ground.textOnly Departure.lateStores }], guard := none } : Oper)) rfl (fun K hK => ?_) AllReadyH.nil))
    · go_simp
      refine hK.out _ _ (⟨cell_grow p0, cell_grow p1, cell_grow p2, cell_grow p3⟩) (fun hHeld => ?_)
      clear hK K
      try simp only [Act.put, List.setIfInBounds_toArray, List.set_cons_zero, List.set_cons_succ]
      refine wpAnyH_ready (rs := [5]) (by kernel_rfl) (by simp) ?_
      refine (AllReadyH.cons (o := ({ dst := none, op := Op.store 30 (Operand.tmp 4) (Operand.tmp 20), type := 0, pos := "l08_gather.go:45", after := #[{ on := 1, ground := Ground.data }, { on := 1, ground := Ground.chain }, { on := 0, ground := Ground.phase }, { on := 1, ground := Ground.phase }, { on := 2, ground := Ground.textOnly Departure.lateStores }, { on := 3, ground := Ground.textOnly Departure.lateStores }, { on := 4, ground := Ground.textOnly Departure.lateStores }], guard := none } : Oper)) rfl (fun K hK => ?_) AllReadyH.nil)
      obtain ⟨g0, g1, g2⟩ := (pr.alloc (.cells #[] 5)).cells
      have f0 := (pr.alloc (.cells #[] 5)).frozen 0
      have f1 := (pr.alloc (.cells #[] 5)).frozen 1
      have f2 := (pr.alloc (.cells #[] 5)).frozen 2
      go_simp
      refine hK.out _ _ (⟨cell_kept hn1 (cell_kept hn1 (cell_kept hn1 (cell_grow p0))), cell_kept hn1 (cell_kept hn1 (cell_kept hn1 (cell_grow p1))), cell_kept hn1 (cell_kept hn1 (cell_kept hn1 (cell_grow p2))), cell_kept hn2 (cell_kept hn2 (cell_kept hn2 (cell_grow p3)))⟩) (fun hHeld => ?_)
      clear hK K
      try simp only [Act.put, List.setIfInBounds_toArray, List.set_cons_zero, List.set_cons_succ]
      refine wpAnyH_take (i := 6) (oi := ({ dst := some 5, op := Op.assign (Operand.tmp 21), type := 22, pos := "l08_gather.go:45", after := #[{ on := 2, ground := Ground.data }, { on := 5, ground := Ground.chain }, { on := 0, ground := Ground.phase }, { on := 1, ground := Ground.phase }, { on := 2, ground := Ground.phase }, { on := 3, ground := Ground.textOnly Departure.lateStores }, { on := 4, ground := Ground.textOnly Departure.lateStores }, { on := 5, ground := Ground.phase }], guard := none } : Oper)) (v := ?tv1) rfl (by kernel_rfl) (by kernel_rfl) (by kernel_rfl) (fun _ _ _ h => h) (Or.inl ⟨by rfl, ?ty1⟩) (by assumption) ?tr1
      case ty1 => (intro w hSw; (try dsimp only at hSw); (try obtain ⟨s0, s1, s2, s3⟩ := hSw); go_simp <;> with_reducible rfl)
      simp only [Act.put, List.setIfInBounds_toArray, List.set_cons_zero, List.set_cons_succ]
      refine wpAnyH_take (i := 7) (oi := ({ dst := some 6, op := Op.assign (Operand.tmp 23), type := 3, pos := "l08_gather.go:45", after := #[{ on := 4, ground := Ground.data }, { on := 6, ground := Ground.chain }, { on := 0, ground := Ground.phase }, { on := 1, ground := Ground.phase }, { on := 2, ground := Ground.phase }, { on := 3, ground := Ground.phase }, { on := 4, ground := Ground.phase }, { on := 5, ground := Ground.phase }, { on := 6, ground := Ground.phase }], guard := none } : Oper)) (v := ?tv2) rfl (by kernel_rfl) (by kernel_rfl) (by kernel_rfl) (fun _ _ _ h => h) (Or.inl ⟨by rfl, ?ty2⟩) (by assumption) ?tr2
      case ty2 => (intro w hSw; (try dsimp only at hSw); (try obtain ⟨s0, s1, s2, s3⟩ := hSw); go_simp <;> with_reducible rfl)
      simp only [Act.put, List.setIfInBounds_toArray, List.set_cons_zero, List.set_cons_succ]
      refine wpAnyH_done (by kernel_rfl) ?_ _
      refine NoPanic.normal ?_
      clear hHeld
      have HF : Hid (Owns ((((Y.alloc (.cells #[] 5)).setCell ⟨w.heap.size + 1 + 1, 0, none⟩ (.int .i64 s)).setCell ⟨w.heap.size + 1 + 1, 1, none⟩ (.bool en)).setCell ⟨w.heap.size + 1 + 1, 2, none⟩ (.slice a4 n k4)) w.heap.size a4 n k4 zs ∧ Owns ((((Y.alloc (.cells #[] 5)).setCell ⟨w.heap.size + 1 + 1, 0, none⟩ (.int .i64 s)).setCell ⟨w.heap.size + 1 + 1, 1, none⟩ (.bool en)).setCell ⟨w.heap.size + 1 + 1, 2, none⟩ (.slice a4 n k4)) w.heap.size (some ⟨Y.heap.size, 0, none⟩) 0 0 [] ∧ Parts2 a4 (some ⟨Y.heap.size, 0, none⟩) ∧ Below w.heap.size w ((((Y.alloc (.cells #[] 5)).setCell ⟨w.heap.size + 1 + 1, 0, none⟩ (.int .i64 s)).setCell ⟨w.heap.size + 1 + 1, 1, none⟩ (.bool en)).setCell ⟨w.heap.size + 1 + 1, 2, none⟩ (.slice a4 n k4))) := by
        have hyb : Below w.heap.size w Y := (HQ.out _ (hx2b.trans (hb4'.mono hx2b.size))).2.2.2.1
        have hn : a4.map (·.block) ≠ some (w.heap.size + 1 + 1) := fun e => by have h3 := (og.lt _ e).1; omega
        have hys := hb4'.size
        have h0 : Owns (Y.alloc (.cells #[] 5)) Y.heap.size (some ⟨Y.heap.size, 0, none⟩) 0 0 [] := ⟨World.ownsRow_lit Y #[] 0 (Nat.le_refl _) (Nat.zero_le _) rfl, by simp⟩
        have hn0 : (some (⟨Y.heap.size, 0, none⟩ : Addr)).map (·.block) ≠ some (w.heap.size + 1 + 1) := fun e => by (injection e with e; have e' : Y.heap.size = w.heap.size + 1 + 1 := e; omega)
        have hya := hyb.alloc (o := (.cells #[] 5)) hyb.size
        refine ⟨(owns_set (owns_set (owns_set (og.below ((Below.refl _ _).alloc (Nat.le_refl _) _)) hn) hn) hn).low (by omega), (owns_set (owns_set (owns_set h0 hn0) hn0) hn0).low (by omega), fun q hq e => ?_, ((hya.setCell (p := ⟨w.heap.size + 1 + 1, 0, none⟩) (by show w.heap.size ≤ w.heap.size + 1 + 1; omega) _).setCell (p := ⟨w.heap.size + 1 + 1, 1, none⟩) (by show w.heap.size ≤ w.heap.size + 1 + 1; omega) _).setCell (p := ⟨w.heap.size + 1 + 1, 2, none⟩) (by show w.heap.size ≤ w.heap.size + 1 + 1; omega) _⟩
        have h3 := (og.lt q hq).2
        have e' : Y.heap.size = q := by injection e
        omega
      go_wp2_with fail
      refine bodyPost_ret (v := .tuple #[.agg #[.int .i64 s, .bool en, .slice a4 n k4], .slice (some ⟨Y.heap.size, 0, none⟩) 0 0, .int .i64 c]) (by simp [results, Tryd.f12, go_sem, g0, g1, g2]) rfl ?_
      exact ⟨_, _, _, _, rfl, HF.out.1, HF.out.2.1, HF.out.2.2.1, HF.out.2.2.2⟩
    · obtain ⟨g0, g1, g2⟩ := (pr).cells
      have f0 := (pr).frozen 0
      have f1 := (pr).frozen 1
      have f2 := (pr).frozen 2
      go_simp
      refine hK.out _ _ (⟨cell_kept hn1 (cell_kept hn1 (cell_kept hn1 p0)), cell_kept hn1 (cell_kept hn1 (cell_kept hn1 p1)), cell_kept hn1 (cell_kept hn1 (cell_kept hn1 p2)), cell_kept hn2 (cell_kept hn2 (cell_kept hn2 p3))⟩) (fun hHeld => ?_)
      clear hK K
      try simp only [Act.put, List.setIfInBounds_toArray, List.set_cons_zero, List.set_cons_succ]
      refine wpAnyH_ready (rs := [2]) (by kernel_rfl) (by simp) ?_
      refine (AllReadyH.cons (o := ({ dst := some 21, op := Op.buildSlice 22 0 #[], type := 22, pos := "l08_gather.go:45", after := #[{ on := 5, ground := Ground.gcOnly Departure.lateStores }], guard := none } : Oper)) rfl (fun K hK => ?_) AllReadyH.nil)
      go_simp
      refine hK.out _ _ (⟨cell_grow (cell_kept hn1 (cell_kept hn1 (cell_kept hn1 p0))), cell_grow (cell_kept hn1 (cell_kept hn1 (cell_kept hn1 p1))), cell_grow (cell_kept hn1 (cell_kept hn1 (cell_kept hn1 p2))), cell_grow (cell_kept hn2 (cell_kept hn2 (cell_kept hn2 p3)))⟩) (fun hHeld => ?_)
      clear hK K
      try simp only [Act.put, List.setIfInBounds_toArray, List.set_cons_zero, List.set_cons_succ]
      refine wpAnyH_take (i := 6) (oi := ({ dst := some 5, op := Op.assign (Operand.tmp 21), type := 22, pos := "l08_gather.go:45", after := #[{ on := 2, ground := Ground.data }, { on := 5, ground := Ground.chain }, { on := 0, ground := Ground.phase }, { on := 1, ground := Ground.phase }, { on := 2, ground := Ground.phase }, { on := 3, ground := Ground.textOnly Departure.lateStores }, { on := 4, ground := Ground.textOnly Departure.lateStores }, { on := 5, ground := Ground.phase }], guard := none } : Oper)) (v := ?tv3) rfl (by kernel_rfl) (by kernel_rfl) (by kernel_rfl) (fun _ _ _ h => h) (Or.inl ⟨by rfl, ?ty3⟩) (by assumption) ?tr3
      case ty3 => (intro w hSw; (try dsimp only at hSw); (try obtain ⟨s0, s1, s2, s3⟩ := hSw); go_simp <;> with_reducible rfl)
      simp only [Act.put, List.setIfInBounds_toArray, List.set_cons_zero, List.set_cons_succ]
      refine wpAnyH_take (i := 7) (oi := ({ dst := some 6, op := Op.assign (Operand.tmp 23), type := 3, pos := "l08_gather.go:45", after := #[{ on := 4, ground := Ground.data }, { on := 6, ground := Ground.chain }, { on := 0, ground := Ground.phase }, { on := 1, ground := Ground.phase }, { on := 2, ground := Ground.phase }, { on := 3, ground := Ground.phase }, { on := 4, ground := Ground.phase }, { on := 5, ground := Ground.phase }, { on := 6, ground := Ground.phase }], guard := none } : Oper)) (v := ?tv4) rfl (by kernel_rfl) (by kernel_rfl) (by kernel_rfl) (fun _ _ _ h => h) (Or.inl ⟨by rfl, ?ty4⟩) (by assumption) ?tr4
      case ty4 => (intro w hSw; (try dsimp only at hSw); (try obtain ⟨s0, s1, s2, s3⟩ := hSw); go_simp <;> with_reducible rfl)
      simp only [Act.put, List.setIfInBounds_toArray, List.set_cons_zero, List.set_cons_succ]
      obtain ⟨z0, z1, z2⟩ := ((box3_set2 (box3_set1 (box3_set0 pr (.int .i64 s)) (.bool en)) (.slice a4 n k4)).alloc (.cells #[] 5)).cells
      refine wpAnyH_done (by kernel_rfl) ?_ _
      refine NoPanic.normal ?_
      clear hHeld
      have HF : Hid (Owns ((((Y.setCell ⟨w.heap.size + 1 + 1, 0, none⟩ (.int .i64 s)).setCell ⟨w.heap.size + 1 + 1, 1, none⟩ (.bool en)).setCell ⟨w.heap.size + 1 + 1, 2, none⟩ (.slice a4 n k4)).alloc (.cells #[] 5)) w.heap.size a4 n k4 zs ∧ Owns ((((Y.setCell ⟨w.heap.size + 1 + 1, 0, none⟩ (.int .i64 s)).setCell ⟨w.heap.size + 1 + 1, 1, none⟩ (.bool en)).setCell ⟨w.heap.size + 1 + 1, 2, none⟩ (.slice a4 n k4)).alloc (.cells #[] 5)) w.heap.size (some ⟨Y.heap.size, 0, none⟩) 0 0 [] ∧ Parts2 a4 (some ⟨Y.heap.size, 0, none⟩) ∧ Below w.heap.size w ((((Y.setCell ⟨w.heap.size + 1 + 1, 0, none⟩ (.int .i64 s)).setCell ⟨w.heap.size + 1 + 1, 1, none⟩ (.bool en)).setCell ⟨w.heap.size + 1 + 1, 2, none⟩ (.slice a4 n k4)).alloc (.cells #[] 5))) := by
        have hyb : Below w.heap.size w Y := (HQ.out _ (hx2b.trans (hb4'.mono hx2b.size))).2.2.2.1
        have hn : a4.map (·.block) ≠ some (w.heap.size + 1 + 1) := fun e => by have h3 := (og.lt _ e).1; omega
        have hys := hb4'.size
        have h1 := owns_set (k := 2) (v := .slice a4 n k4) (owns_set (k := 1) (v := .bool en) (owns_set (k := 0) (v := .int .i64 s) og hn) hn) hn
        have hz : (((Y.setCell ⟨w.heap.size + 1 + 1, 0, none⟩ (.int .i64 s)).setCell ⟨w.heap.size + 1 + 1, 1, none⟩ (.bool en)).setCell ⟨w.heap.size + 1 + 1, 2, none⟩ (.slice a4 n k4)).heap.size = Y.heap.size := by simp
        have hb5 : Below w.heap.size w (((Y.setCell ⟨w.heap.size + 1 + 1, 0, none⟩ (.int .i64 s)).setCell ⟨w.heap.size + 1 + 1, 1, none⟩ (.bool en)).setCell ⟨w.heap.size + 1 + 1, 2, none⟩ (.slice a4 n k4)) := ((hyb.setCell (p := ⟨w.heap.size + 1 + 1, 0, none⟩) (by show w.heap.size ≤ w.heap.size + 1 + 1; omega) _).setCell (p := ⟨w.heap.size + 1 + 1, 1, none⟩) (by show w.heap.size ≤ w.heap.size + 1 + 1; omega) _).setCell (p := ⟨w.heap.size + 1 + 1, 2, none⟩) (by show w.heap.size ≤ w.heap.size + 1 + 1; omega) _
        obtain ⟨Z, hZ⟩ : ∃ Z, ((Y.setCell ⟨w.heap.size + 1 + 1, 0, none⟩ (.int .i64 s)).setCell ⟨w.heap.size + 1 + 1, 1, none⟩ (.bool en)).setCell ⟨w.heap.size + 1 + 1, 2, none⟩ (.slice a4 n k4) = Z := ⟨_, rfl⟩
        rw [hZ] at h1 hz hb5 ⊢
        have h0 : Owns (Z.alloc (.cells #[] 5)) Z.heap.size (some ⟨Z.heap.size, 0, none⟩) 0 0 [] := ⟨World.ownsRow_lit Z #[] 0 (Nat.le_refl _) (Nat.zero_le _) rfl, by simp⟩
        rw [hz] at h0
        refine ⟨(h1.below ((Below.refl _ _).alloc (Nat.le_refl _) _)).low (by omega), h0.low (by omega), fun q hq e => ?_, hb5.alloc hb5.size _⟩
        have h3 := (og.lt q hq).2
        have e' : Y.heap.size = q := by injection e
        omega
      go_wp2_with fail
      refine bodyPost_ret (v := .tuple #[.agg #[.int .i64 s, .bool en, .slice a4 n k4], .slice (some ⟨Y.heap.size, 0, none⟩) 0 0, .int .i64 c]) (by simp [results, Tryd.f12, go_sem, z0, z1, z2]) rfl ?_
      exact ⟨_, _, _, _, rfl, HF.out.1, HF.out.2.1, HF.out.2.2.1, HF.out.2.2.2⟩
  · go_simp
    refine hK.out _ _ (⟨cell_grow c0, cell_grow c1, cell_grow c2, cell_grow hx2c⟩) (fun hHeld => ?_)
    clear hK K
    try simp only [Act.put, List.setIfInBounds_toArray, List.set_cons_zero, List.set_cons_succ]
    refine wpAnyH_ready (rs := [1]) (by kernel_rfl) (by simp) ?_
    refine (AllReadyH.cons (o := ({ dst := some 20, op := Op.call { callee := Callee.value (Operand.func 36), args := #[Operand.tmp 19], argTypes := #[30] }, type := 30, pos := "l08_gather.go:45", after := #[{ on := 0, ground := Ground.data }], guard := none } : Oper)) rfl (fun K hK => ?_) AllReadyH.nil)
    go_simp
    refine (copyGa_any s en a n cap zs _ (HQ.out _ (hx2b.drew.alloc hx2b.size (.cells #[] 5))).2.2.2.2 hl).mono ?_
    rintro e Y ⟨a4, k4, rfl, og, hb4⟩
    have hbA : Below x2.heap.size x2 (x2.drew.alloc (.cells #[] 5)) := (Below.refl x2.heap.size x2).drew.alloc (Nat.le_refl _) _
    have hb4' : Below x2.heap.size x2 Y := hbA.trans (hb4.mono hbA.size)
    have hlo : x2.heap.size ≤ (x2.drew.alloc (.cells #[] 5)).heap.size := hbA.size
    obtain ⟨⟨p0, p1, p2, p3⟩, pr⟩ := HKp.out _ hb4'
    go_wp2_with fail
    refine hK.out _ _ (⟨p0, p1, p2, p3⟩) (fun hHeld => ?_)
    clear hK K
    try simp only [Act.put, List.setIfInBounds_toArray, List.set_cons_zero, List.set_cons_succ]
    refine wpAnyH_ready (rs := [5]) (by kernel_rfl) (by simp) ?_
    refine (AllReadyH.cons (o := ({ dst := none, op := Op.store 30 (Operand.tmp 4) (Operand.tmp 20), type := 0, pos := "l08_gather.go:45", after := #[{ on := 1, ground := Ground.data }, { on := 1, ground := Ground.chain }, { on := 0, ground := Ground.phase }, { on := 1, ground := Ground.phase }, { on := 2, ground := Ground.textOnly Departure.lateStores }, { on := 3, ground := Ground.textOnly Departure.lateStores }, { on := 4, ground := Ground.textOnly Departure.lateStores }], guard := none } : Oper)) rfl (fun K hK => ?_) AllReadyH.nil)
    obtain ⟨g0, g1, g2⟩ := (pr).cells
    have f0 := (pr).frozen 0
    have f1 := (pr).frozen 1
    have f2 := (pr).frozen 2
    go_simp
    refine hK.out _ _ (⟨cell_kept hn1 (cell_kept hn1 (cell_kept hn1 p0)), cell_kept hn1 (cell_kept hn1 (cell_kept hn1 p1)), cell_kept hn1 (cell_kept hn1 (cell_kept hn1 p2)), cell_kept hn2 (cell_kept hn2 (cell_kept hn2 p3))⟩) (fun hHeld => ?_)
    clear hK K
    try simp only [Act.put, List.setIfInBounds_toArray, List.set_cons_zero, List.set_cons_succ]
    refine wpAnyH_take (i := 6) (oi := ({ dst := some 5, op := Op.assign (Operand.tmp 21), type := 22, pos := "l08_gather.go:45", after := #[{ on := 2, ground := Ground.data }, { on := 5, ground := Ground.chain }, { on := 0, ground := Ground.phase }, { on := 1, ground := Ground.phase }, { on := 2, ground := Ground.phase }, { on := 3, ground := Ground.textOnly Departure.lateStores }, { on := 4, ground := Ground.textOnly Departure.lateStores }, { on := 5, ground := Ground.phase }], guard := none } : Oper)) (v := ?tv5) rfl (by kernel_rfl) (by kernel_rfl) (by kernel_rfl) (fun _ _ _ h => h) (Or.inl ⟨by rfl, ?ty5⟩) (by assumption) ?tr5
    case ty5 => (intro w hSw; (try dsimp only at hSw); (try obtain ⟨s0, s1, s2, s3⟩ := hSw); go_simp <;> with_reducible rfl)
    simp only [Act.put, List.setIfInBounds_toArray, List.set_cons_zero, List.set_cons_succ]
    refine wpAnyH_take (i := 7) (oi := ({ dst := some 6, op := Op.assign (Operand.tmp 23), type := 3, pos := "l08_gather.go:45", after := #[{ on := 4, ground := Ground.data }, { on := 6, ground := Ground.chain }, { on := 0, ground := Ground.phase }, { on := 1, ground := Ground.phase }, { on := 2, ground := Ground.phase }, { on := 3, ground := Ground.phase }, { on := 4, ground := Ground.phase }, { on := 5, ground := Ground.phase }, { on := 6, ground := Ground.phase }], guard := none } : Oper)) (v := ?tv6) rfl (by kernel_rfl) (by kernel_rfl) (by kernel_rfl) (fun _ _ _ h => h) (Or.inl ⟨by rfl, ?ty6⟩) (by assumption) ?tr6
    case ty6 => (intro w hSw; (try dsimp only at hSw); (try obtain ⟨s0, s1, s2, s3⟩ := hSw); go_simp <;> with_reducible rfl)
    simp only [Act.put, List.setIfInBounds_toArray, List.set_cons_zero, List.set_cons_succ]
    refine wpAnyH_done (by kernel_rfl) ?_ _
    refine NoPanic.normal ?_
    clear hHeld
    have HF : Hid (Owns (((Y.setCell ⟨w.heap.size + 1 + 1, 0, none⟩ (.int .i64 s)).setCell ⟨w.heap.size + 1 + 1, 1, none⟩ (.bool en)).setCell ⟨w.heap.size + 1 + 1, 2, none⟩ (.slice a4 n k4)) w.heap.size a4 n k4 zs ∧ Owns (((Y.setCell ⟨w.heap.size + 1 + 1, 0, none⟩ (.int .i64 s)).setCell ⟨w.heap.size + 1 + 1, 1, none⟩ (.bool en)).setCell ⟨w.heap.size + 1 + 1, 2, none⟩ (.slice a4 n k4)) w.heap.size (some ⟨x2.heap.size, 0, none⟩) 0 0 [] ∧ Parts2 a4 (some ⟨x2.heap.size, 0, none⟩) ∧ Below w.heap.size w (((Y.setCell ⟨w.heap.size + 1 + 1, 0, none⟩ (.int .i64 s)).setCell ⟨w.heap.size + 1 + 1, 1, none⟩ (.bool en)).setCell ⟨w.heap.size + 1 + 1, 2, none⟩ (.slice a4 n k4))) := by
      have hyb : Below w.heap.size w Y := (HQ.out _ (hx2b.trans (hb4'.mono hx2b.size))).2.2.2.1
      have hn : a4.map (·.block) ≠ some (w.heap.size + 1 + 1) := fun e => by have h3 := (og.lt _ e).1; omega
      have hys := hb4'.size
      have h0 : Owns (x2.drew.alloc (.cells #[] 5)) x2.heap.size (some ⟨x2.heap.size, 0, none⟩) 0 0 [] := ⟨World.ownsRow_lit x2.drew #[] 0 (Nat.le_refl _) (Nat.zero_le _) rfl, by simp⟩
      have hn0 : (some (⟨x2.heap.size, 0, none⟩ : Addr)).map (·.block) ≠ some (w.heap.size + 1 + 1) := fun e => by (injection e with e; have e' : x2.heap.size = w.heap.size + 1 + 1 := e; omega)
      refine ⟨(owns_set (owns_set (owns_set og hn) hn) hn).low (by omega), (owns_set (owns_set (owns_set (h0.below hb4) hn0) hn0) hn0).low (by omega), fun q hq e => ?_, ((hyb.setCell (p := ⟨w.heap.size + 1 + 1, 0, none⟩) (by show w.heap.size ≤ w.heap.size + 1 + 1; omega) _).setCell (p := ⟨w.heap.size + 1 + 1, 1, none⟩) (by show w.heap.size ≤ w.heap.size + 1 + 1; omega) _).setCell (p := ⟨w.heap.size + 1 + 1, 2, none⟩) (by show w.heap.size ≤ w.heap.size + 1 + 1; omega) _⟩
      have h3 := (og.lt q hq).1
      have e' : x2.heap.size = q := by injection e
      have h4 : (x2.drew.alloc (.cells #[] 5)).heap.size = x2.heap.size + 1 := by rw [World.size_alloc]; rfl
      omega
    go_wp2_with fail
    refine bodyPost_ret (v := .tuple #[.agg #[.int .i64 s, .bool en, .slice a4 n k4], .slice (some ⟨x2.heap.size, 0, none⟩) 0 0, .int .i64 c]) (by simp [results, Tryd.f12, go_sem, g0, g1, g2]) rfl ?_
    exact ⟨_, _, _, _, rfl, HF.out.1, HF.out.2.1, HF.out.2.2.1, HF.out.2.2.2⟩

end Go.Proofs.YtpjldfpipchmjadDoor
