/- What the program's fold makes of a record that ends an upload. What the program's fold makes of a record that drops an upload. What records make, said as the program goes; no program in it. Whether a Kind is one of a record's: what the program's own helper answers. What the program's fold makes of a record. -/
import Derived.Test.YtlkgopoicpnacaaGreatDoorM36
import Derived.Test.YtlkgopoicpnacaaGreatDoorM36
import Derived.Test.YtlkgopoicpnacaaGreatDoorM07
import Derived.Test.YtlkgopoicpnacaaGreatDoorM36
import Derived.Test.YtlkgopoicpnacaaGreatDoorM18
import Derived.Test.YtlkgopoicpnacaaGreatDoorM01
import Derived.Laws.EntriesVeiled
import Derived.Shelf.Abstract
namespace Go.Proofs.YtlkgopoicpnacaaGreatDoor
open Go.RowKit
set_option linter.unusedVariables false

/-- What a record that ends an upload makes, said as the program goes. -/
def doneO (l : List U) (id : ByteArray) : Option (List U) := match atU l id with
  | none => none
  | some k => match l[k]? with
    | none => none
    | some u => if u.done = false ∧ (u.zs.length : Int) = u.want then some (l.set k { u with done := true }) else none

theorem doneO_at {l : List U} {id : ByteArray} {k : Nat} {u : U} (h : atU l id = some k) (hu : l[k]? = some u) : doneO l id = if u.done = false ∧ (u.zs.length : Int) = u.want then some (l.set k { u with done := true }) else none := by
  simp only [doneO, h, hu]

set_option maxRecDepth 10000 in
set_option maxHeartbeats 1600000 in
theorem implFinish_any (fb base : Nat) (a : Option Addr) (n c : Nat) (l : List UE) (e q k : Int) (id : ByteArray) (rn : Int) (ra : Option Addr) (d ca : Nat) (w : World) (hf : BoxN w fb 112 [.slice a n c]) (h : UpRow w base (.slice a n c) l) (hn : n = l.length) (hl : n ≤ 1099511627776) (he : ErrN w) (hbase : base ≤ w.heap.size) (hfb : base ≤ fb) (hzl : ∀ x ∈ l, x.n ≤ 1099511627776) :
    Calls Tryz.prog 97 #[.pointer (some ⟨fb, 0, none⟩), .agg #[.int .i64 e, .int .i64 q, .int .i64 k, .string id, .int .i64 rn, .slice ra d ca]] w fun e w' => FoldAns w base fb (doneO (l.map UE.u) id) e w' := by
  obtain ⟨w0, hw0⟩ : ∃ w0, w.alloc (.cells #[.int .i64 e, .int .i64 q, .int .i64 k, .string id, .int .i64 rn, .slice ra d ca] 107) = w0 := ⟨_, rfl⟩
  have HE : Hid (w.alloc (.cells #[.int .i64 e, .int .i64 q, .int .i64 k, .string id, .int .i64 rn, .slice ra d ca] 107) = w0) := hw0
  have HQ : Hid (BoxN w0 w.heap.size 107 [.int .i64 e, .int .i64 q, .int .i64 k, .string id, .int .i64 rn, .slice ra d ca]) := by show BoxN _ _ _ _; rw [← hw0]; exact BoxN.new _ _ _
  have HB : Hid (Below w.heap.size w w0) := by show Below _ _ _; rw [← hw0]; exact (Below.refl _ _).alloc (Nat.le_refl _) _
  have HX : Hid (∀ W, Below w0.heap.size w0 W → BoxN W fb 112 [.slice a n c] ∧ UpRow W base (.slice a n c) l ∧ ErrN W ∧ Below w.heap.size w W ∧ BoxN W w.heap.size 107 [.int .i64 e, .int .i64 q, .int .i64 k, .string id, .int .i64 rn, .slice ra d ca]) := fun W hb => ⟨(hf.stays HB.out).stays hb, (h.stays HB.out).stays hb, (he.below HB.out).below hb, HB.out.trans (hb.mono HB.out.size), HQ.out.stays hb⟩
  have HN : Hid (n = l.length) := hn
  have r3 := (HX.out w0 (Below.refl _ _)).2.2.2.2.cell 3 rfl
  have HT : Hid (Calls Tryz.prog 114 #[.pointer (some ⟨fb, 0, none⟩), .string id] w0 fun e w' => ThereAns (atU (l.map UE.u) id) a e ∧ Below w0.heap.size w0 w') := implThere_any fb a n c base id l w0 (HX.out w0 (Below.refl _ _)).1 (HX.out w0 (Below.refl _ _)).2.1 HN.out hl (HX.out w0 (Below.refl _ _)).2.2.1
  clear hw0 hf h hn he HQ HB
  go_enter Tryz.func97, Tryz.ntmps97
  go_upto_region 1 with fail
  rw [HE.out]
  clear HE
  go_wp2_with fail
  refine HT.out.mono ?_
  rintro ee w1 ⟨hth, hb1⟩
  have HB1 : Hid (Below w0.heap.size w0 w1) := hb1
  clear hb1 HT r3
  rcases hth with ⟨kk, g, hk, rfl, rfl⟩ | ⟨hk, t, v, rfl⟩
  case inr =>
    have HF : Hid (doneO (l.map UE.u) id = none) := by show _ = _; rw [doneO, hk]
    clear hk
    go_wp2_with fail
    exact ⟨rfl, .inl ⟨HF.out, t, v, rfl⟩, (HX.out _ HB1.out).2.2.2.1.mono hbase⟩
  have hkl : kk < l.length := by simpa using (atU_is hk).1
  have HZk : Hid ((l[kk]).n ≤ 1099511627776) := hzl _ (List.getElem_mem hkl)
  have HG : Hid (doneO (l.map UE.u) id = if (l[kk]).u.done = false ∧ ((l[kk]).u.zs.length : Int) = (l[kk]).u.want then some ((l.map UE.u).set kk { (l[kk]).u with done := true }) else none) := doneO_at hk (by rw [List.getElem?_map, List.getElem?_eq_getElem hkl]; rfl)
  have HZn : Hid ((l[kk]).u.zs.length = (l[kk]).n) := ((HX.out _ HB1.out).2.1.2.1 _ (List.getElem_mem hkl)).seg.1
  have HC : Hid (∀ P : Past w1, P.world.cell? ⟨g, kk * 4 + 1, none⟩ = some (.int .i64 (l[kk]).u.want) ∧ P.world.cell? ⟨g, kk * 4 + 2, none⟩ = some (.slice (l[kk]).a (l[kk]).n (l[kk]).c) ∧ P.world.cell? ⟨g, kk * 4 + 3, none⟩ = some (.bool (l[kk]).u.done)) := fun P => by
    obtain ⟨_, hg', _, c1, c2, c3, _⟩ := (HX.out _ (HB1.out.trans (P.below.mono HB1.out.size))).2.1.at HN.out hkl
    injection hg' with hg'
    injection hg' with hg'
    subst hg'
    exact ⟨c1, c2, c3⟩
  have y1 : ∀ P : Past w1, P.world.cell? ⟨g, kk * 4 + 1, none⟩ = some (.int .i64 (l[kk]).u.want) := fun P => (HC.out P).1
  have y2 : ∀ P : Past w1, P.world.cell? ⟨g, kk * 4 + 2, none⟩ = some (.slice (l[kk]).a (l[kk]).n (l[kk]).c) := fun P => (HC.out P).2.1
  have y3 : ∀ P : Past w1, P.world.cell? ⟨g, kk * 4 + 3, none⟩ = some (.bool (l[kk]).u.done) := fun P => (HC.out P).2.2
  have hne := past_some w1
  have HMf : Hid (∀ P : Past w1, Calls Tryz.prog 99 #[.bool true] P.world fun e w' => e = .returned (.tuple #[]) ∧ Below P.world.heap.size P.world w') := fun P => (mustFit_yes _).mono (fun e w' h => ⟨h.1, by rw [h.2]; exact Below.refl _ _⟩)
  clear hk hzl
  go_upto_region 2 with fail
  cases hdn : (l[kk]).u.done with
  | true =>
    have HF : Hid (doneO (l.map UE.u) id = none) := by show _ = _; rw [HG.out, if_neg (by rw [hdn]; simp)]
    rw [hdn] at y3
    clear hdn HG HC
    refine wp_region_past_tail 17 (by kernel_rfl) (by kernel_rfl) (fun ops HO => ?_)
    simp only [List.take_succ_cons, List.take_zero, List.drop_succ_cons, List.drop_zero]
    iterate 6 (quiet_step ((first | (go_at_call 99; with_reducible exact calls_past (HMf.out _)) | fail)))
    iterate 10 (refine quiet_past (by rw [HO.out]; kernel_rfl) ?_)
    iterate 1 (quiet_step ((first | (go_at_call 99; with_reducible exact calls_past (HMf.out _)) | fail)))
    refine wpQuiet_nil ?_
    rintro _ ⟨z, rfl⟩
    have HB2 : Hid (Below w0.heap.size w0 z.world) := HB1.out.trans (z.below.mono HB1.out.size)
    go_wp2_with fail
    refine (mustFit_no _ (HX.out _ HB2.out).2.2.1).mono ?_
    rintro _ x2 ⟨⟨t, v, rfl⟩, rfl⟩
    go_wp2_with fail
    exact ⟨rfl, .inl ⟨HF.out, t, v, rfl⟩, (HX.out _ HB2.out).2.2.2.1.mono hbase⟩
  | false =>
    rw [hdn] at y3
    by_cases hw : ((l[kk]).n : Int) = (l[kk]).u.want
    case neg =>
      have HF : Hid (doneO (l.map UE.u) id = none) := by show _ = _; rw [HG.out, if_neg (fun h => hw (by rw [← HZn.out]; exact h.2))]
      have e1 : (((l[kk]).n : Int) == (l[kk]).u.want) = false := by simpa using hw
      clear hdn HG HC hw
      refine wp_region_past_tail 17 (by kernel_rfl) (by kernel_rfl) (fun ops HO => ?_)
      simp only [List.take_succ_cons, List.take_zero, List.drop_succ_cons, List.drop_zero]
      iterate 6 (quiet_step ((first | (go_at_call 99; with_reducible exact calls_past (HMf.out _)) | fail)))
      iterate 10 (refine quiet_do (by rw [HO.out]; kernel_rfl) (fun K hK => ?_); go_simp; (refine hK _ ?_; clear hK K))
      iterate 1 (quiet_step ((first | (go_at_call 99; with_reducible exact calls_past (HMf.out _)) | fail)))
      refine wpQuiet_nil ?_
      rintro _ ⟨z, rfl⟩
      have HB2 : Hid (Below w0.heap.size w0 z.world) := HB1.out.trans (z.below.mono HB1.out.size)
      go_wp2_with fail
      refine (mustFit_no _ (HX.out _ HB2.out).2.2.1).mono ?_
      rintro _ x2 ⟨⟨t, v, rfl⟩, rfl⟩
      go_wp2_with fail
      exact ⟨rfl, .inl ⟨HF.out, t, v, rfl⟩, (HX.out _ HB2.out).2.2.2.1.mono hbase⟩
    have HF : Hid (doneO (l.map UE.u) id = some ((l.map UE.u).set kk { (l[kk]).u with done := true })) := by show _ = _; rw [HG.out, if_pos ⟨hdn, by rw [HZn.out]; exact hw⟩]
    have e1 : (((l[kk]).n : Int) == (l[kk]).u.want) = true := by simpa using hw
    clear hdn HG HC hw
    refine wp_region_pastO (by kernel_rfl) (by kernel_rfl) fun ops HO => ?_
    iterate 6 (quiet_step ((first | (go_at_call 99; with_reducible exact calls_past (HMf.out _)) | fail)))
    iterate 10 (refine quiet_do (by rw [HO.out]; kernel_rfl) (fun K hK => ?_); go_simp; (refine hK _ ?_; clear hK K))
    iterate 2 (quiet_step ((first | (go_at_call 99; with_reducible exact calls_past (HMf.out _)) | fail)))
    refine wpQuiet_nil ?_
    rintro _ ⟨z, rfl⟩
    have HB2 : Hid (Below w0.heap.size w0 z.world) := HB1.out.trans (z.below.mono HB1.out.size)
    obtain ⟨W2, hW2⟩ : ∃ W2, z.world = W2 := ⟨_, rfl⟩
    rw [hW2] at HB2 ⊢
    clear hW2 z y1 y2 y3 hne
    have hx := HX.out _ HB2.out
    have hrow := hx.2.1
    have hsp : l = l.take kk ++ l[kk] :: l.drop (kk + 1) := by rw [← List.drop_eq_getElem_cons hkl, List.take_append_drop]
    have htl : (l.take kk).length = kk := by rw [List.length_take]; omega
    have hrow2 : UpRow W2 base (.slice (some ⟨g, 0, none⟩) n c) (l.take kk ++ l[kk] :: l.drop (kk + 1)) := by rw [← hsp]; exact hrow
    obtain ⟨_, hg', _, _, _, c3, hfz⟩ := hrow.at HN.out hkl
    injection hg' with hg'
    injection hg' with hg'
    subst hg'
    have sf := hfz (kk * 4 + 3)
    have hU3 := hrow2.doned (by rw [← hsp]; exact HN.out.symm) true
    rw [htl] at hU3
    have hfg : fb ≠ g := fun e => hx.1.noRow hrow.1 (by decide) (by rw [e]; rfl)
    have HR : Hid (FoldAns w base fb (doneO (l.map UE.u) id) (.returned (.tuple #[])) (W2.setCell ⟨g, kk * 4 + 3, none⟩ (.bool true))) := by
      refine ⟨.inr ⟨_, n, c, _, rfl, ?_, ?_, hx.1.other hfg _, hU3.1⟩, ?_⟩
      · rw [HF.out, map_put hkl]
      · rw [HN.out, List.length_append, List.length_cons, htl, List.length_drop]; omega
      · exact (hx.2.2.2.1.mono hbase).setCell (by dsimp only; exact (hrow.lts.1 g rfl).1) _
    clear hx hrow hsp htl hrow2 hU3 hfz HF
    go_wp2_with fail
    go_end0
    exact HR.out

end Go.Proofs.YtlkgopoicpnacaaGreatDoor

namespace Go.Proofs.YtlkgopoicpnacaaGreatDoor
open Go.RowKit
set_option linter.unusedVariables false

/-- What a record that drops an upload makes, said as the program goes. -/
def dropO (l : List U) (id : ByteArray) : Option (List U) := match atU l id with
  | none => none
  | some _ => some (keptU l id)

set_option maxRecDepth 10000 in
set_option maxHeartbeats 1600000 in
theorem implDrop_any (fb base : Nat) (a : Option Addr) (n c : Nat) (l : List UE) (e q k : Int) (id : ByteArray) (rn : Int) (ra : Option Addr) (d ca : Nat) (w : World) (hf : BoxN w fb 112 [.slice a n c]) (h : UpRow w base (.slice a n c) l) (hn : n = l.length) (hl : n ≤ 1099511627776) (he : ErrN w) (hbase : base ≤ w.heap.size) (hfb : base ≤ fb) (hn1 : n ≤ 1048576) :
    Calls Tryz.prog 98 #[.pointer (some ⟨fb, 0, none⟩), .agg #[.int .i64 e, .int .i64 q, .int .i64 k, .string id, .int .i64 rn, .slice ra d ca]] w fun e w' => FoldAns w base fb (dropO (l.map UE.u) id) e w' := by
  obtain ⟨w0, hw0⟩ : ∃ w0, w.alloc (.cells #[.int .i64 e, .int .i64 q, .int .i64 k, .string id, .int .i64 rn, .slice ra d ca] 107) = w0 := ⟨_, rfl⟩
  have HE : Hid (w.alloc (.cells #[.int .i64 e, .int .i64 q, .int .i64 k, .string id, .int .i64 rn, .slice ra d ca] 107) = w0) := hw0
  have HQ : Hid (BoxN w0 w.heap.size 107 [.int .i64 e, .int .i64 q, .int .i64 k, .string id, .int .i64 rn, .slice ra d ca]) := by show BoxN _ _ _ _; rw [← hw0]; exact BoxN.new _ _ _
  have HB : Hid (Below w.heap.size w w0) := by show Below _ _ _; rw [← hw0]; exact (Below.refl _ _).alloc (Nat.le_refl _) _
  have HX : Hid (∀ W, Below w0.heap.size w0 W → BoxN W fb 112 [.slice a n c] ∧ UpRow W base (.slice a n c) l ∧ ErrN W ∧ Below w.heap.size w W ∧ BoxN W w.heap.size 107 [.int .i64 e, .int .i64 q, .int .i64 k, .string id, .int .i64 rn, .slice ra d ca]) := fun W hb => ⟨(hf.stays HB.out).stays hb, (h.stays HB.out).stays hb, (he.below HB.out).below hb, HB.out.trans (hb.mono HB.out.size), HQ.out.stays hb⟩
  have HN : Hid (n = l.length) := hn
  have r3 := (HX.out w0 (Below.refl _ _)).2.2.2.2.cell 3 rfl
  have HT : Hid (Calls Tryz.prog 114 #[.pointer (some ⟨fb, 0, none⟩), .string id] w0 fun e w' => ThereAns (atU (l.map UE.u) id) a e ∧ Below w0.heap.size w0 w') := implThere_any fb a n c base id l w0 (HX.out w0 (Below.refl _ _)).1 (HX.out w0 (Below.refl _ _)).2.1 HN.out hl (HX.out w0 (Below.refl _ _)).2.2.1
  clear hw0 hf h hn he HQ HB
  go_enter Tryz.func98, Tryz.ntmps98
  go_upto_region 1 with fail
  rw [HE.out]
  clear HE
  go_wp2_with fail
  refine HT.out.mono ?_
  rintro ee w1 ⟨hth, hb1⟩
  have HB1 : Hid (Below w0.heap.size w0 w1) := hb1
  clear hb1 HT r3
  rcases hth with ⟨kk, g, hk, rfl, rfl⟩ | ⟨hk, t, v, rfl⟩
  case inr =>
    have HF : Hid (dropO (l.map UE.u) id = none) := by show _ = _; rw [dropO, hk]
    clear hk
    go_wp2_with fail
    exact ⟨rfl, .inl ⟨HF.out, t, v, rfl⟩, (HX.out _ HB1.out).2.2.2.1.mono hbase⟩
  have HF : Hid (dropO (l.map UE.u) id = some ((keptE id l).map UE.u)) := by show _ = _; rw [dropO, hk, keptE_map]
  have hkl : kk < l.length := by simpa using (atU_is hk).1
  have HK1 : Hid ((l[kk]).u.id = id) := by show _ = _; simpa using (atU_is hk).2
  have HK2 : Hid (∀ j (hj : j < l.length), j < kk → (l[j]).u.id ≠ id) := fun j hj hjk => by
    have h := hk
    rw [atU, List.findIdx?_eq_some_iff_getElem] at h
    obtain ⟨_, _, h3⟩ := h
    simpa using h3 j hjk
  have y0 : ∀ P : Past w1, P.world.cell? ⟨fb, 0, none⟩ = some (.slice (some ⟨g, 0, none⟩) n c) := fun P => (HX.out _ (HB1.out.trans (P.below.mono HB1.out.size))).1.cell 0 rfl
  have y3 : ∀ P : Past w1, P.world.cell? ⟨w.heap.size, 3, none⟩ = some (.string id) := fun P => (HX.out _ (HB1.out.trans (P.below.mono HB1.out.size))).2.2.2.2.cell 3 rfl
  have hne := past_some w1
  clear hk
  go_upto_region 2 with fail
  refine wp_region_past_tail1 7 (by kernel_rfl) (by kernel_rfl) (by kernel_rfl) (by kernel_rfl) rfl rfl _ rfl (fun ops HO => ?_)
  simp only [List.take_succ_cons, List.take_zero, List.drop_succ_cons, List.drop_zero]
  iterate 6 (quiet_step ((first | fail)))
  refine wpQuiet_nil ?_
  rintro _ ⟨z, rfl⟩
  have HB2 : Hid (Below w0.heap.size w0 z.world) := HB1.out.trans (z.below.mono HB1.out.size)
  obtain ⟨W2, hW2⟩ : ∃ W2, z.world = W2 := ⟨_, rfl⟩
  rw [hW2] at HB2 ⊢
  clear hW2 z y0 y3 hne
  have HOw : Hid (OwnU W2 base (some ⟨g, 0, none⟩) n c l) := by
    have h := (HX.out _ HB2.out).2.1.1
    rw [← HN.out] at h
    exact h
  have HC : Hid (Calls Tryz.prog 116 #[.slice (some ⟨g, 0, none⟩) n c, .string id] W2 fun e w' => e = .returned (.slice (some ⟨g, 0, none⟩) (keptE id l).length c) ∧ OwnU w' base (some ⟨g, 0, none⟩) (keptE id l).length c (keptE id l) ∧ W2.grownBy w' (some g)) := implWithoutU_any base g n c l id kk W2 HOw.out hn1 hkl HK2.out HK1.out
  go_wp2_with fail
  refine HC.out.mono ?_
  rintro _ W3 ⟨rfl, ho3, hg3⟩
  have hx := HX.out _ HB2.out
  have hrow := hx.2.1
  have hU3 : UpRow W3 base (.slice (some ⟨g, 0, none⟩) (keptE id l).length c) (keptE id l) := hrow.remade ho3 hg3 (fun e he => .inl (List.mem_filter.1 he).1) (List.Pairwise.sublist List.filter_sublist hrow.2.2)
  have hF3 : BoxN W3 fb 112 [.slice (some ⟨g, 0, none⟩) n c] := hx.1.grown hg3 (fun e => hx.1.noRow hrow.1 (by decide) e)
  have f3 := hF3.cell 0 rfl
  have z3 := hF3.frozen 0
  have HR : Hid (FoldAns w base fb (dropO (l.map UE.u) id) (.returned (.tuple #[])) (W3.setCell ⟨fb, 0, none⟩ (.slice (some ⟨g, 0, none⟩) (keptE id l).length c))) := by
    refine ⟨.inr ⟨_, _, c, _, rfl, HF.out, rfl, hF3.set 0 _, hU3.setBox hF3 (by decide) (by decide)⟩, ?_⟩
    have h1 : Below base w W2 := hx.2.2.2.1.mono hbase
    have h2 := h1.grown hg3 (Nat.le_trans hbase hx.2.2.2.1.size) (fun q hq => by injection hq with hq; subst hq; exact (hrow.lts.1 g rfl).1)
    exact h2.setCell (by dsimp only; exact hfb) _
  clear hx ho3 hg3 hrow hU3 hF3 HF HC
  go_wp2_with fail
  go_end0
  exact HR.out

end Go.Proofs.YtlkgopoicpnacaaGreatDoor

namespace Go.Proofs.YtlkgopoicpnacaaGreatDoor
open Go.RowKit
set_option linter.unusedVariables false

/-- What a record that begins an upload makes, said as the program goes. -/
def beginO (l : List U) (id : ByteArray) (rn : Int) : Option (List U) := if atU l id = none ∧ l.length < 10 then some (l.take (lessU l id) ++ [⟨id, rn, [], false⟩] ++ l.drop (lessU l id)) else none

section
variable {l : List U} {e q : Int} {id : ByteArray} {rn : Int} {ys : List Int}

theorem one1 (h : Asc l) : beginO l id rn = oneU l ⟨e, q, 1, id, rn, ys⟩ := by
  rw [beginO, oneU, if_pos rfl]
  by_cases hc : atU l id = none ∧ l.length < 10
  · rw [if_pos hc, if_pos hc, makeU_less h hc.1]
    simp
  · rw [if_neg hc, if_neg hc]

theorem one2 (h : Asc l) : growO l id rn ys = oneU l ⟨e, q, 2, id, rn, ys⟩ := by
  rw [growO, oneU, if_neg (show ¬ (2 : Int) = 1 by decide)]
  dsimp only
  cases atU l id with
  | none => rfl
  | some k =>
    dsimp only
    cases l[k]? with
    | none => rfl
    | some u =>
      dsimp only
      rw [if_pos (show (2 : Int) = 2 from rfl)]
      by_cases hc : u.done = true ∨ rn ≠ (u.zs.length : Int) ∨ u.want < rn + (ys.length : Int)
      · rw [if_pos hc, if_neg]
        intro hf
        simp only [fitB, Bool.and_eq_true, Bool.not_eq_true', decide_eq_true_eq] at hf
        rcases hc with hc | hc | hc
        · rw [hf.1.1] at hc; cases hc
        · exact hc hf.1.2
        · omega
      · rw [if_neg hc, if_pos]
        simp only [fitB, Bool.and_eq_true, Bool.not_eq_true', decide_eq_true_eq]
        simp only [not_or] at hc
        exact ⟨⟨by simpa using hc.1, by omega⟩, by omega⟩

theorem one3 (h : Asc l) : doneO l id = oneU l ⟨e, q, 3, id, rn, ys⟩ := by
  rw [doneO, oneU, if_neg (show ¬ (3 : Int) = 1 by decide)]
  dsimp only
  cases atU l id with
  | none => rfl
  | some k =>
    dsimp only
    cases l[k]? with
    | none => rfl
    | some u =>
      dsimp only
      rw [if_neg (show ¬ (3 : Int) = 2 by decide), if_pos (show (3 : Int) = 3 from rfl)]
      by_cases hc : u.done = true ∨ (u.zs.length : Int) ≠ u.want
      · rw [if_pos hc, if_neg]
        rintro ⟨h1, h2⟩
        rcases hc with hc | hc
        · rw [h1] at hc; cases hc
        · exact hc h2
      · rw [if_neg hc, if_pos]
        simp only [not_or] at hc
        exact ⟨by simpa using hc.1, by omega⟩

theorem one4 (h : Asc l) : dropO l id = oneU l ⟨e, q, 4, id, rn, ys⟩ := by
  rw [dropO, oneU, if_neg (show ¬ (4 : Int) = 1 by decide)]
  dsimp only
  cases hk : atU l id with
  | none => rfl
  | some k =>
    dsimp only
    obtain ⟨hkl, _⟩ := atU_is hk
    rw [List.getElem?_eq_getElem hkl]
    dsimp only
    rw [if_neg (show ¬ (4 : Int) = 2 by decide), if_neg (show ¬ (4 : Int) = 3 by decide), if_pos (show (4 : Int) = 4 from rfl), erase_kept h hk]
end

end Go.Proofs.YtlkgopoicpnacaaGreatDoor

namespace Go.Proofs.YtlkgopoicpnacaaGreatDoor
open Go.RowKit
set_option linter.unusedVariables false

theorem implKind_any (k : Int) (w : World) :
    Calls Tryz.prog 100 #[.int .i64 k] w fun e w' => e = .returned (.bool (decide (1 ≤ k ∧ k ≤ 4))) ∧ w' = w := by
  by_cases h1 : 1 ≤ k
  · by_cases h4 : k ≤ 4
    · have HF : Hid (decide (1 ≤ k ∧ k ≤ 4) = true) := decide_eq_true ⟨h1, h4⟩
      have d1 : decide (1 ≤ k) = true := decide_eq_true h1
      have d4 : decide (k ≤ 4) = true := decide_eq_true h4
      rw [HF.out]
      go_enter Tryz.func100, Tryz.ntmps100
      go_wp2_with fail
      go_ret
      exact ⟨rfl, rfl⟩
    · have HF : Hid (decide (1 ≤ k ∧ k ≤ 4) = false) := decide_eq_false (fun h => h4 h.2)
      have d1 : decide (1 ≤ k) = true := decide_eq_true h1
      have d4 : decide (k ≤ 4) = false := decide_eq_false h4
      rw [HF.out]
      go_enter Tryz.func100, Tryz.ntmps100
      go_wp2_with fail
      go_ret
      exact ⟨rfl, rfl⟩
  · have HF : Hid (decide (1 ≤ k ∧ k ≤ 4) = false) := decide_eq_false (fun h => h1 h.1)
    have d1 : decide (1 ≤ k) = false := decide_eq_false h1
    rw [HF.out]
    go_enter Tryz.func100, Tryz.ntmps100
    go_wp2_with fail
    go_ret
    exact ⟨rfl, rfl⟩

end Go.Proofs.YtlkgopoicpnacaaGreatDoor

namespace Go.Proofs.YtlkgopoicpnacaaGreatDoor
open Go.RowKit
set_option linter.unusedVariables false

/-- A record that begins an upload. -/
theorem implBegin_any (fb base : Nat) (a : Option Addr) (n c : Nat) (l : List UE) (e q k : Int) (id : ByteArray) (rn : Int) (ra : Option Addr) (d ca : Nat) (w : World) (hf : BoxN w fb 112 [.slice a n c]) (h : UpRow w base (.slice a n c) l) (hn : n = l.length) (hl : n ≤ 1099511627776) (he : ErrN w) (hbase : base ≤ w.heap.size) (hfb : base ≤ fb) (hn1 : n ≤ 1048576) :
    Calls Tryz.prog 95 #[.pointer (some ⟨fb, 0, none⟩), .agg #[.int .i64 e, .int .i64 q, .int .i64 k, .string id, .int .i64 rn, .slice ra d ca]] w fun e w' => FoldAns w base fb (beginO (l.map UE.u) id rn) e w' := by
  by_cases hc : atU (l.map UE.u) id = none ∧ n < 10
  · refine (begin_yes fb base a n c l e q k id rn ra d ca w hf h hn hl he hbase hfb hc).mono ?_
    rintro ee w' ⟨⟨a', c', rfl, h1, h2⟩, h3⟩
    have hln := h2.1.1
    refine ⟨.inr ⟨a', n + 1, c', _, rfl, ?_, ?_, h1, h2⟩, h3⟩
    · rw [beginO, if_pos ⟨hc.1, by rw [List.length_map, ← hn]; exact hc.2⟩]
      simp [List.map_take, List.map_drop]
    · have := lessU_le id (l.map UE.u)
      rw [List.length_map] at this
      simp only [List.length_append, List.length_take, List.length_drop, List.length_cons, List.length_nil]
      omega
  · refine (begin_no fb base a n c l e q k id rn ra d ca w hf h hn hl he hc).mono ?_
    rintro ee w' ⟨h1, h2⟩
    refine ⟨.inl ⟨?_, h1⟩, h2.mono hbase⟩
    rw [beginO, if_neg (fun h => hc ⟨h.1, by rw [hn]; simpa using h.2⟩)]

/-- A record of no Kind makes nothing. -/
theorem oneU_kind {l : List U} {r : R} (h : ¬ (1 ≤ r.k ∧ r.k ≤ 4)) : oneU l r = none := by
  have h1 : r.k ≠ 1 := by omega
  have h2 : r.k ≠ 2 := by omega
  have h3 : r.k ≠ 3 := by omega
  have h4 : r.k ≠ 4 := by omega
  rw [oneU, if_neg h1]
  split
  · rfl
  · split
    · rfl
    · rw [if_neg h2, if_neg h3, if_neg h4]

set_option maxRecDepth 10000 in
set_option maxHeartbeats 1600000 in
theorem implTake_any (fb base : Nat) (a : Option Addr) (n c : Nat) (l : List UE) (e q k : Int) (id : ByteArray) (rn : Int) (ra : Option Addr) (d ca : Nat) (w : World) (hf : BoxN w fb 112 [.slice a n c]) (h : UpRow w base (.slice a n c) l) (hn : n = l.length) (hl : n ≤ 1099511627776) (he : ErrN w) (hbase : base ≤ w.heap.size) (hfb : base ≤ fb) (ys : List Int) (hs : Seg w ra d ys) (hd : d ≤ 1099511627776) (hfit : ∀ x ∈ l, UFit x.u) (hzl : ∀ x ∈ l, x.n ≤ 1099511627776) (hn1 : n ≤ 1048576) (hasc : Asc (l.map UE.u)) :
    Calls Tryz.prog 66 #[.pointer (some ⟨fb, 0, none⟩), .agg #[.int .i64 e, .int .i64 q, .int .i64 k, .string id, .int .i64 rn, .slice ra d ca]] w fun ee w' => FoldAns w base fb (oneU (l.map UE.u) ⟨e, q, k, id, rn, ys⟩) ee w' := by
  obtain ⟨w0, hw0⟩ : ∃ w0, (w.alloc (.cells #[.int .i64 e, .int .i64 q, .int .i64 k, .string id, .int .i64 rn, .slice ra d ca] 107)).alloc (.cells #[.nilFunc, .func (.func 95) #[] #[], .func (.func 96) #[] #[], .func (.func 97) #[] #[], .func (.func 98) #[] #[]] 136) = w0 := ⟨_, rfl⟩
  have HE : Hid ((w.alloc (.cells #[.int .i64 e, .int .i64 q, .int .i64 k, .string id, .int .i64 rn, .slice ra d ca] 107)).alloc (.cells #[.nilFunc, .func (.func 95) #[] #[], .func (.func 96) #[] #[], .func (.func 97) #[] #[], .func (.func 98) #[] #[]] 136) = w0) := hw0
  have HQ : Hid (BoxN w0 w.heap.size 107 [.int .i64 e, .int .i64 q, .int .i64 k, .string id, .int .i64 rn, .slice ra d ca]) := by show BoxN _ _ _ _; rw [← hw0]; exact (BoxN.new _ _ _).alloc _
  have HM : Hid (BoxN w0 (w.heap.size + 1) 136 [.nilFunc, .func (.func 95) #[] #[], .func (.func 96) #[] #[], .func (.func 97) #[] #[], .func (.func 98) #[] #[]]) := by
    show BoxN _ _ _ _
    rw [← hw0]
    have := BoxN.new (w.alloc (.cells #[.int .i64 e, .int .i64 q, .int .i64 k, .string id, .int .i64 rn, .slice ra d ca] 107)) 136 [.nilFunc, .func (.func 95) #[] #[], .func (.func 96) #[] #[], .func (.func 97) #[] #[], .func (.func 98) #[] #[]]
    rw [World.size_alloc] at this
    exact this
  have HB : Hid (Below w.heap.size w w0) := by show Below _ _ _; rw [← hw0]; exact ((Below.refl _ _).alloc (Nat.le_refl _) _).alloc (by simp) _
  have HX : Hid (∀ W, Below w0.heap.size w0 W → BoxN W fb 112 [.slice a n c] ∧ UpRow W base (.slice a n c) l ∧ ErrN W ∧ Below w.heap.size w W ∧ BoxN W w.heap.size 107 [.int .i64 e, .int .i64 q, .int .i64 k, .string id, .int .i64 rn, .slice ra d ca] ∧ BoxN W (w.heap.size + 1) 136 [.nilFunc, .func (.func 95) #[] #[], .func (.func 96) #[] #[], .func (.func 97) #[] #[], .func (.func 98) #[] #[]] ∧ Seg W ra d ys) := fun W hb => ⟨(hf.stays HB.out).stays hb, (h.stays HB.out).stays hb, (he.below HB.out).below hb, HB.out.trans (hb.mono HB.out.size), HQ.out.stays hb, HM.out.stays hb, (hs.below HB.out).below hb⟩
  have HN : Hid (n = l.length) := hn
  have HFi : Hid (∀ x ∈ l, UFit x.u) := hfit
  have HZl : Hid (∀ x ∈ l, x.n ≤ 1099511627776) := hzl
  have HA : Hid (Asc (l.map UE.u)) := hasc
  have hx0 := HX.out w0 (Below.refl _ _)
  obtain ⟨r0, r1, r2, r3, r4, r5⟩ := (show _ ∧ _ ∧ _ ∧ _ ∧ _ ∧ _ from ⟨hx0.2.2.2.2.1.cell 0 rfl, hx0.2.2.2.2.1.cell 1 rfl, hx0.2.2.2.2.1.cell 2 rfl, hx0.2.2.2.2.1.cell 3 rfl, hx0.2.2.2.2.1.cell 4 rfl, hx0.2.2.2.2.1.cell 5 rfl⟩)
  clear hw0 hf h hn he HQ HB HM hs hfit hzl hasc hx0
  go_enter Tryz.func66, Tryz.ntmps66
  go_upto_region 2 with fail
  rw [HE.out]
  clear HE
  go_wp2_with fail
  refine (implKind_any k _).mono ?_
  rintro _ w1 ⟨rfl, rfl⟩
  have HB1 : Hid (Below w1.heap.size w1 w1) := Below.refl _ _
  clear r0 r1 r2 r3 r4 r5
  by_cases hk : 1 ≤ k ∧ k ≤ 4
  case neg =>
    have HF : Hid (oneU (l.map UE.u) ⟨e, q, k, id, rn, ys⟩ = none) := oneU_kind hk
    rw [decide_eq_false hk]
    clear hk
    go_wp2_with fail
    refine (mustFit_no _ (HX.out _ HB1.out).2.2.1).mono ?_
    rintro _ x2 ⟨⟨t, v, rfl⟩, rfl⟩
    go_wp2_with fail
    exact ⟨rfl, .inl ⟨HF.out, t, v, rfl⟩, (HX.out _ HB1.out).2.2.2.1.mono hbase⟩
  case pos =>
    rw [decide_eq_true hk]
    go_wp2_with fail
    refine (mustFit_yes _).mono ?_
    rintro _ w2 ⟨rfl, rfl⟩
    go_upto_region 3 with fail
    have HBx : Hid (∀ P : Past w2, Below w2.heap.size w2 P.world) := fun P => P.below
    have y0 : ∀ P : Past w2, P.world.cell? ⟨w.heap.size, 0, none⟩ = some (.int .i64 e) := fun P => (HX.out _ (HBx.out P)).2.2.2.2.1.cell 0 rfl
    have y1 : ∀ P : Past w2, P.world.cell? ⟨w.heap.size, 1, none⟩ = some (.int .i64 q) := fun P => (HX.out _ (HBx.out P)).2.2.2.2.1.cell 1 rfl
    have y2 : ∀ P : Past w2, P.world.cell? ⟨w.heap.size, 2, none⟩ = some (.int .i64 k) := fun P => (HX.out _ (HBx.out P)).2.2.2.2.1.cell 2 rfl
    have y3 : ∀ P : Past w2, P.world.cell? ⟨w.heap.size, 3, none⟩ = some (.string id) := fun P => (HX.out _ (HBx.out P)).2.2.2.2.1.cell 3 rfl
    have y4 : ∀ P : Past w2, P.world.cell? ⟨w.heap.size, 4, none⟩ = some (.int .i64 rn) := fun P => (HX.out _ (HBx.out P)).2.2.2.2.1.cell 4 rfl
    have y5 : ∀ P : Past w2, P.world.cell? ⟨w.heap.size, 5, none⟩ = some (.slice ra d ca) := fun P => (HX.out _ (HBx.out P)).2.2.2.2.1.cell 5 rfl
    have m1 : ∀ P : Past w2, P.world.cell? ⟨w.heap.size + 1, 1, none⟩ = some (.func (.func 95) #[] #[]) := fun P => (HX.out _ (HBx.out P)).2.2.2.2.2.1.cell 1 rfl
    have m2 : ∀ P : Past w2, P.world.cell? ⟨w.heap.size + 1, 2, none⟩ = some (.func (.func 96) #[] #[]) := fun P => (HX.out _ (HBx.out P)).2.2.2.2.2.1.cell 2 rfl
    have m3 : ∀ P : Past w2, P.world.cell? ⟨w.heap.size + 1, 3, none⟩ = some (.func (.func 97) #[] #[]) := fun P => (HX.out _ (HBx.out P)).2.2.2.2.2.1.cell 3 rfl
    have m4 : ∀ P : Past w2, P.world.cell? ⟨w.heap.size + 1, 4, none⟩ = some (.func (.func 98) #[] #[]) := fun P => (HX.out _ (HBx.out P)).2.2.2.2.2.1.cell 4 rfl
    have hne := past_some w2
    have hk4 : k = 1 ∨ k = 2 ∨ k = 3 ∨ k = 4 := by omega
    rcases hk4 with rfl | rfl | rfl | rfl
    · have HO1 : Hid (beginO (l.map UE.u) id rn = oneU (l.map UE.u) ⟨e, q, 1, id, rn, ys⟩) := one1 HA.out
      have eg : ∀ (args : Array Value) (w : World), Sem.run Tryz.prog (callFunc 95 args) w = .ok (.enter 95 args) w := enters_of Tryz.func95 (by kernel_rfl) rfl
      refine wp_region_past_tail 6 (by kernel_rfl) (by kernel_rfl) (fun ops HO => ?_)
      simp only [List.take_succ_cons, List.take_zero, List.drop_succ_cons, List.drop_zero]
      iterate 6 (quiet_step ((first | fail)))
      refine wpQuiet_nil ?_
      rintro _ ⟨z, rfl⟩
      have HB2 : Hid (Below w2.heap.size w2 z.world) := HBx.out z
      obtain ⟨W2, hW2⟩ : ∃ W2, z.world = W2 := ⟨_, rfl⟩
      rw [hW2] at HB2 ⊢
      clear hW2 z hne y0 y1 y2 y3 y4 y5 m1 m2 m3 m4
      have HC : Hid (Calls Tryz.prog 95 #[.pointer (some ⟨fb, 0, none⟩), .agg #[.int .i64 e, .int .i64 q, .int .i64 1, .string id, .int .i64 rn, .slice ra d ca]] W2 fun e w' => FoldAns W2 base fb (beginO (l.map UE.u) id rn) e w') := by
        have hx := HX.out _ HB2.out
        exact implBegin_any fb base a n c l e q 1 id rn ra d ca W2 hx.1 hx.2.1 HN.out hl hx.2.2.1 (Nat.le_trans hbase hx.2.2.2.1.size) hfb hn1
      go_wp2_with fail
      refine HC.out.mono ?_
      rintro ee w4 ⟨hans, hb4⟩
      have HBf : Hid (Below base w w4) := ((HX.out _ HB2.out).2.2.2.1.mono hbase).trans hb4
      rw [HO1.out] at hans
      rcases hans with ⟨hno, t, v, rfl⟩ | ⟨a', n', c', l', rfl, hmap, hlen, hbx, hrow⟩
      · go_wp2_with fail
        exact ⟨rfl, .inl ⟨hno, t, v, rfl⟩, HBf.out⟩
      · have HR : Hid (FoldAns w base fb (oneU (l.map UE.u) ⟨e, q, 1, id, rn, ys⟩) (.returned (.tuple #[])) w4) := ⟨.inr ⟨a', n', c', l', rfl, hmap, hlen, hbx, hrow⟩, HBf.out⟩
        clear hmap hlen hbx hrow HC
        go_wp2_with fail
        go_end0
        exact HR.out
    · have HO1 : Hid (growO (l.map UE.u) id rn ys = oneU (l.map UE.u) ⟨e, q, 2, id, rn, ys⟩) := one2 HA.out
      have eg : ∀ (args : Array Value) (w : World), Sem.run Tryz.prog (callFunc 96 args) w = .ok (.enter 96 args) w := enters_of Tryz.func96 (by kernel_rfl) rfl
      refine wp_region_past_tail 6 (by kernel_rfl) (by kernel_rfl) (fun ops HO => ?_)
      simp only [List.take_succ_cons, List.take_zero, List.drop_succ_cons, List.drop_zero]
      iterate 6 (quiet_step ((first | fail)))
      refine wpQuiet_nil ?_
      rintro _ ⟨z, rfl⟩
      have HB2 : Hid (Below w2.heap.size w2 z.world) := HBx.out z
      obtain ⟨W2, hW2⟩ : ∃ W2, z.world = W2 := ⟨_, rfl⟩
      rw [hW2] at HB2 ⊢
      clear hW2 z hne y0 y1 y2 y3 y4 y5 m1 m2 m3 m4
      have HC : Hid (Calls Tryz.prog 96 #[.pointer (some ⟨fb, 0, none⟩), .agg #[.int .i64 e, .int .i64 q, .int .i64 2, .string id, .int .i64 rn, .slice ra d ca]] W2 fun e w' => FoldAns W2 base fb (growO (l.map UE.u) id rn ys) e w') := by
        have hx := HX.out _ HB2.out
        exact implGrow_any fb base a n c l e q 2 id rn ra d ca W2 hx.1 hx.2.1 HN.out hl hx.2.2.1 (Nat.le_trans hbase hx.2.2.2.1.size) hfb ys hx.2.2.2.2.2.2 hd HFi.out HZl.out
      go_wp2_with fail
      refine HC.out.mono ?_
      rintro ee w4 ⟨hans, hb4⟩
      have HBf : Hid (Below base w w4) := ((HX.out _ HB2.out).2.2.2.1.mono hbase).trans hb4
      rw [HO1.out] at hans
      rcases hans with ⟨hno, t, v, rfl⟩ | ⟨a', n', c', l', rfl, hmap, hlen, hbx, hrow⟩
      · go_wp2_with fail
        exact ⟨rfl, .inl ⟨hno, t, v, rfl⟩, HBf.out⟩
      · have HR : Hid (FoldAns w base fb (oneU (l.map UE.u) ⟨e, q, 2, id, rn, ys⟩) (.returned (.tuple #[])) w4) := ⟨.inr ⟨a', n', c', l', rfl, hmap, hlen, hbx, hrow⟩, HBf.out⟩
        clear hmap hlen hbx hrow HC
        go_wp2_with fail
        go_end0
        exact HR.out
    · have HO1 : Hid (doneO (l.map UE.u) id = oneU (l.map UE.u) ⟨e, q, 3, id, rn, ys⟩) := one3 HA.out
      have eg : ∀ (args : Array Value) (w : World), Sem.run Tryz.prog (callFunc 97 args) w = .ok (.enter 97 args) w := enters_of Tryz.func97 (by kernel_rfl) rfl
      refine wp_region_past_tail 6 (by kernel_rfl) (by kernel_rfl) (fun ops HO => ?_)
      simp only [List.take_succ_cons, List.take_zero, List.drop_succ_cons, List.drop_zero]
      iterate 6 (quiet_step ((first | fail)))
      refine wpQuiet_nil ?_
      rintro _ ⟨z, rfl⟩
      have HB2 : Hid (Below w2.heap.size w2 z.world) := HBx.out z
      obtain ⟨W2, hW2⟩ : ∃ W2, z.world = W2 := ⟨_, rfl⟩
      rw [hW2] at HB2 ⊢
      clear hW2 z hne y0 y1 y2 y3 y4 y5 m1 m2 m3 m4
      have HC : Hid (Calls Tryz.prog 97 #[.pointer (some ⟨fb, 0, none⟩), .agg #[.int .i64 e, .int .i64 q, .int .i64 3, .string id, .int .i64 rn, .slice ra d ca]] W2 fun e w' => FoldAns W2 base fb (doneO (l.map UE.u) id) e w') := by
        have hx := HX.out _ HB2.out
        exact implFinish_any fb base a n c l e q 3 id rn ra d ca W2 hx.1 hx.2.1 HN.out hl hx.2.2.1 (Nat.le_trans hbase hx.2.2.2.1.size) hfb HZl.out
      go_wp2_with fail
      refine HC.out.mono ?_
      rintro ee w4 ⟨hans, hb4⟩
      have HBf : Hid (Below base w w4) := ((HX.out _ HB2.out).2.2.2.1.mono hbase).trans hb4
      rw [HO1.out] at hans
      rcases hans with ⟨hno, t, v, rfl⟩ | ⟨a', n', c', l', rfl, hmap, hlen, hbx, hrow⟩
      · go_wp2_with fail
        exact ⟨rfl, .inl ⟨hno, t, v, rfl⟩, HBf.out⟩
      · have HR : Hid (FoldAns w base fb (oneU (l.map UE.u) ⟨e, q, 3, id, rn, ys⟩) (.returned (.tuple #[])) w4) := ⟨.inr ⟨a', n', c', l', rfl, hmap, hlen, hbx, hrow⟩, HBf.out⟩
        clear hmap hlen hbx hrow HC
        go_wp2_with fail
        go_end0
        exact HR.out
    · have HO1 : Hid (dropO (l.map UE.u) id = oneU (l.map UE.u) ⟨e, q, 4, id, rn, ys⟩) := one4 HA.out
      have eg : ∀ (args : Array Value) (w : World), Sem.run Tryz.prog (callFunc 98 args) w = .ok (.enter 98 args) w := enters_of Tryz.func98 (by kernel_rfl) rfl
      refine wp_region_past_tail 6 (by kernel_rfl) (by kernel_rfl) (fun ops HO => ?_)
      simp only [List.take_succ_cons, List.take_zero, List.drop_succ_cons, List.drop_zero]
      iterate 6 (quiet_step ((first | fail)))
      refine wpQuiet_nil ?_
      rintro _ ⟨z, rfl⟩
      have HB2 : Hid (Below w2.heap.size w2 z.world) := HBx.out z
      obtain ⟨W2, hW2⟩ : ∃ W2, z.world = W2 := ⟨_, rfl⟩
      rw [hW2] at HB2 ⊢
      clear hW2 z hne y0 y1 y2 y3 y4 y5 m1 m2 m3 m4
      have HC : Hid (Calls Tryz.prog 98 #[.pointer (some ⟨fb, 0, none⟩), .agg #[.int .i64 e, .int .i64 q, .int .i64 4, .string id, .int .i64 rn, .slice ra d ca]] W2 fun e w' => FoldAns W2 base fb (dropO (l.map UE.u) id) e w') := by
        have hx := HX.out _ HB2.out
        exact implDrop_any fb base a n c l e q 4 id rn ra d ca W2 hx.1 hx.2.1 HN.out hl hx.2.2.1 (Nat.le_trans hbase hx.2.2.2.1.size) hfb hn1
      go_wp2_with fail
      refine HC.out.mono ?_
      rintro ee w4 ⟨hans, hb4⟩
      have HBf : Hid (Below base w w4) := ((HX.out _ HB2.out).2.2.2.1.mono hbase).trans hb4
      rw [HO1.out] at hans
      rcases hans with ⟨hno, t, v, rfl⟩ | ⟨a', n', c', l', rfl, hmap, hlen, hbx, hrow⟩
      · go_wp2_with fail
        exact ⟨rfl, .inl ⟨hno, t, v, rfl⟩, HBf.out⟩
      · have HR : Hid (FoldAns w base fb (oneU (l.map UE.u) ⟨e, q, 4, id, rn, ys⟩) (.returned (.tuple #[])) w4) := ⟨.inr ⟨a', n', c', l', rfl, hmap, hlen, hbx, hrow⟩, HBf.out⟩
        clear hmap hlen hbx hrow HC
        go_wp2_with fail
        go_end0
        exact HR.out

end Go.Proofs.YtlkgopoicpnacaaGreatDoor
