/- What the program's fold makes of a record that drops an upload. What records make, said as the program goes; no program in it. Whether a Kind is one of a record's: what the program's own helper answers. -/
import Derived.Test.YtenkpgnkkkgdmauGreatDoorM13
import Derived.Test.YtenkpgnkkkgdmauGreatDoorM13
import Derived.Test.YtenkpgnkkkgdmauGreatDoorM13
import Derived.Test.YtenkpgnkkkgdmauGreatDoorM10
import Derived.Test.YtenkpgnkkkgdmauGreatDoorM01
namespace Go.Proofs.YtenkpgnkkkgdmauGreatDoor
open Go.RowKit
set_option linter.unusedVariables false

/-- What a record that drops an upload makes, said as the program goes. -/
def dropO (l : List U) (id : ByteArray) : Option (List U) := match atU l id with
  | none => none
  | some _ => some (keptU l id)

set_option maxRecDepth 10000 in
set_option maxHeartbeats 1600000 in
theorem implDrop_any (fb base : Nat) (a : Option Addr) (n c : Nat) (l : List UE) (e q k : Int) (id : ByteArray) (rn : Int) (ra : Option Addr) (d ca : Nat) (w : World) (hf : BoxN w fb 111 [.slice a n c]) (h : UpRow w base (.slice a n c) l) (hn : n = l.length) (hl : n ≤ 1099511627776) (he : ErrN w) (hbase : base ≤ w.heap.size) (hfb : base ≤ fb) (hn1 : n ≤ 1048576) :
    Calls Tryz.prog 101 #[.pointer (some ⟨fb, 0, none⟩), .agg #[.int .i64 e, .int .i64 q, .int .i64 k, .string id, .int .i64 rn, .slice ra d ca]] w fun e w' => FoldAns w base fb (dropO (l.map UE.u) id) e w' := by
  obtain ⟨w0, hw0⟩ : ∃ w0, w.alloc (.cells #[.int .i64 e, .int .i64 q, .int .i64 k, .string id, .int .i64 rn, .slice ra d ca] 56) = w0 := ⟨_, rfl⟩
  have HE : Hid (w.alloc (.cells #[.int .i64 e, .int .i64 q, .int .i64 k, .string id, .int .i64 rn, .slice ra d ca] 56) = w0) := hw0
  have HQ : Hid (BoxN w0 w.heap.size 56 [.int .i64 e, .int .i64 q, .int .i64 k, .string id, .int .i64 rn, .slice ra d ca]) := by show BoxN _ _ _ _; rw [← hw0]; exact BoxN.new _ _ _
  have HB : Hid (Below w.heap.size w w0) := by show Below _ _ _; rw [← hw0]; exact (Below.refl _ _).alloc (Nat.le_refl _) _
  have HX : Hid (∀ W, Below w0.heap.size w0 W → BoxN W fb 111 [.slice a n c] ∧ UpRow W base (.slice a n c) l ∧ ErrN W ∧ Below w.heap.size w W ∧ BoxN W w.heap.size 56 [.int .i64 e, .int .i64 q, .int .i64 k, .string id, .int .i64 rn, .slice ra d ca]) := fun W hb => ⟨(hf.stays HB.out).stays hb, (h.stays HB.out).stays hb, (he.below HB.out).below hb, HB.out.trans (hb.mono HB.out.size), HQ.out.stays hb⟩
  have HN : Hid (n = l.length) := hn
  have r3 := (HX.out w0 (Below.refl _ _)).2.2.2.2.cell 3 rfl
  have HT : Hid (Calls Tryz.prog 107 #[.pointer (some ⟨fb, 0, none⟩), .string id] w0 fun e w' => ThereAns (atU (l.map UE.u) id) a e ∧ Below w0.heap.size w0 w') := implThere_any fb a n c base id l w0 (HX.out w0 (Below.refl _ _)).1 (HX.out w0 (Below.refl _ _)).2.1 HN.out hl (HX.out w0 (Below.refl _ _)).2.2.1
  clear hw0 hf h hn he HQ HB
  go_enter Tryz.func101, Tryz.ntmps101
  go_upto_region 1 with fail
  rw [HE.out]
  clear HE
  go_wp2_with fail
  refine HT.out.mono ?_
  rintro ee w1 ⟨hth, hb1⟩
  have HB1 : Hid (Below w0.heap.size w0 w1) := hb1
  clear hb1 HT r3
  rcases hth with ⟨kk, g, hk, rfl, rfl⟩ | ⟨hk, t, v, rfl⟩
  case inr =>
    have HF : Hid (dropO (l.map UE.u) id = none) := by show _ = _; rw [dropO, hk]
    clear hk
    go_wp2_with fail
    exact ⟨rfl, .inl ⟨HF.out, t, v, rfl⟩, (HX.out _ HB1.out).2.2.2.1.mono hbase⟩
  have HF : Hid (dropO (l.map UE.u) id = some ((keptE id l).map UE.u)) := by show _ = _; rw [dropO, hk, keptE_map]
  have hkl : kk < l.length := by simpa using (atU_is hk).1
  have HK1 : Hid ((l[kk]).u.id = id) := by show _ = _; simpa using (atU_is hk).2
  have HK2 : Hid (∀ j (hj : j < l.length), j < kk → (l[j]).u.id ≠ id) := fun j hj hjk => by
    have h := hk
    rw [atU, List.findIdx?_eq_some_iff_getElem] at h
    obtain ⟨_, _, h3⟩ := h
    simpa using h3 j hjk
  have y0 : ∀ P : Past w1, P.world.cell? ⟨fb, 0, none⟩ = some (.slice (some ⟨g, 0, none⟩) n c) := fun P => (HX.out _ (HB1.out.trans (P.below.mono HB1.out.size))).1.cell 0 rfl
  have y3 : ∀ P : Past w1, P.world.cell? ⟨w.heap.size, 3, none⟩ = some (.string id) := fun P => (HX.out _ (HB1.out.trans (P.below.mono HB1.out.size))).2.2.2.2.cell 3 rfl
  have hne := past_some w1
  clear hk
  go_upto_region 2 with fail
  refine wp_region_past_tail1 7 (by kernel_rfl) (by kernel_rfl) (by kernel_rfl) (by kernel_rfl) rfl rfl _ rfl (fun ops HO => ?_)
  simp only [List.take_succ_cons, List.take_zero, List.drop_succ_cons, List.drop_zero]
  iterate 6 (quiet_step ((first | fail)))
  refine wpQuiet_nil ?_
  rintro _ ⟨z, rfl⟩
  have HB2 : Hid (Below w0.heap.size w0 z.world) := HB1.out.trans (z.below.mono HB1.out.size)
  obtain ⟨W2, hW2⟩ : ∃ W2, z.world = W2 := ⟨_, rfl⟩
  rw [hW2] at HB2 ⊢
  clear hW2 z y0 y3 hne
  have HOw : Hid (OwnU W2 base (some ⟨g, 0, none⟩) n c l) := by
    have h := (HX.out _ HB2.out).2.1.1
    rw [← HN.out] at h
    exact h
  have HC : Hid (Calls Tryz.prog 109 #[.slice (some ⟨g, 0, none⟩) n c, .string id] W2 fun e w' => e = .returned (.slice (some ⟨g, 0, none⟩) (keptE id l).length c) ∧ OwnU w' base (some ⟨g, 0, none⟩) (keptE id l).length c (keptE id l) ∧ W2.grownBy w' (some g)) := implWithoutU_any base g n c l id kk W2 HOw.out hn1 hkl HK2.out HK1.out
  go_wp2_with fail
  refine HC.out.mono ?_
  rintro _ W3 ⟨rfl, ho3, hg3⟩
  have hx := HX.out _ HB2.out
  have hrow := hx.2.1
  have hU3 : UpRow W3 base (.slice (some ⟨g, 0, none⟩) (keptE id l).length c) (keptE id l) := hrow.remade ho3 hg3 (fun e he => .inl (List.mem_filter.1 he).1) (List.Pairwise.sublist List.filter_sublist hrow.2.2)
  have hF3 : BoxN W3 fb 111 [.slice (some ⟨g, 0, none⟩) n c] := hx.1.grown hg3 (fun e => hx.1.noRow hrow.1 (by decide) e)
  have f3 := hF3.cell 0 rfl
  have z3 := hF3.frozen 0
  have HR : Hid (FoldAns w base fb (dropO (l.map UE.u) id) (.returned (.tuple #[])) (W3.setCell ⟨fb, 0, none⟩ (.slice (some ⟨g, 0, none⟩) (keptE id l).length c))) := by
    refine ⟨.inr ⟨_, _, c, _, rfl, HF.out, rfl, hF3.set 0 _, hU3.setBox hF3 (by decide) (by decide)⟩, ?_⟩
    have h1 : Below base w W2 := hx.2.2.2.1.mono hbase
    have h2 := h1.grown hg3 (Nat.le_trans hbase hx.2.2.2.1.size) (fun q hq => by injection hq with hq; subst hq; exact (hrow.lts.1 g rfl).1)
    exact h2.setCell (by dsimp only; exact hfb) _
  clear hx ho3 hg3 hrow hU3 hF3 HF HC
  go_wp2_with fail
  go_end0
  exact HR.out

end Go.Proofs.YtenkpgnkkkgdmauGreatDoor

namespace Go.Proofs.YtenkpgnkkkgdmauGreatDoor
open Go.RowKit
set_option linter.unusedVariables false

/-- What a record that begins an upload makes, said as the program goes. -/
def beginO (l : List U) (id : ByteArray) (rn : Int) : Option (List U) := if atU l id = none ∧ l.length < 10 then some (l.take (lessU l id) ++ [⟨id, rn, [], false⟩] ++ l.drop (lessU l id)) else none

section
variable {l : List U} {e q : Int} {id : ByteArray} {rn : Int} {ys : List Int}

theorem one1 (h : Asc l) : beginO l id rn = oneU l ⟨e, q, 1, id, rn, ys⟩ := by
  rw [beginO, oneU, if_pos rfl]
  by_cases hc : atU l id = none ∧ l.length < 10
  · rw [if_pos hc, if_pos hc, makeU_less h hc.1]
    simp
  · rw [if_neg hc, if_neg hc]

theorem one2 (h : Asc l) : growO l id rn ys = oneU l ⟨e, q, 2, id, rn, ys⟩ := by
  rw [growO, oneU, if_neg (show ¬ (2 : Int) = 1 by decide)]
  dsimp only
  cases atU l id with
  | none => rfl
  | some k =>
    dsimp only
    cases l[k]? with
    | none => rfl
    | some u =>
      dsimp only
      rw [if_pos (show (2 : Int) = 2 from rfl)]
      by_cases hc : u.done = true ∨ rn ≠ (u.zs.length : Int) ∨ u.want < rn + (ys.length : Int)
      · rw [if_pos hc, if_neg]
        intro hf
        simp only [fitB, Bool.and_eq_true, Bool.not_eq_true', decide_eq_true_eq] at hf
        rcases hc with hc | hc | hc
        · rw [hf.1.1] at hc; cases hc
        · exact hc hf.1.2
        · omega
      · rw [if_neg hc, if_pos]
        simp only [fitB, Bool.and_eq_true, Bool.not_eq_true', decide_eq_true_eq]
        simp only [not_or] at hc
        exact ⟨⟨by simpa using hc.1, by omega⟩, by omega⟩

theorem one3 (h : Asc l) : doneO l id = oneU l ⟨e, q, 3, id, rn, ys⟩ := by
  rw [doneO, oneU, if_neg (show ¬ (3 : Int) = 1 by decide)]
  dsimp only
  cases atU l id with
  | none => rfl
  | some k =>
    dsimp only
    cases l[k]? with
    | none => rfl
    | some u =>
      dsimp only
      rw [if_neg (show ¬ (3 : Int) = 2 by decide), if_pos (show (3 : Int) = 3 from rfl)]
      by_cases hc : u.done = true ∨ (u.zs.length : Int) ≠ u.want
      · rw [if_pos hc, if_neg]
        rintro ⟨h1, h2⟩
        rcases hc with hc | hc
        · rw [h1] at hc; cases hc
        · exact hc h2
      · rw [if_neg hc, if_pos]
        simp only [not_or] at hc
        exact ⟨by simpa using hc.1, by omega⟩

theorem one4 (h : Asc l) : dropO l id = oneU l ⟨e, q, 4, id, rn, ys⟩ := by
  rw [dropO, oneU, if_neg (show ¬ (4 : Int) = 1 by decide)]
  dsimp only
  cases hk : atU l id with
  | none => rfl
  | some k =>
    dsimp only
    obtain ⟨hkl, _⟩ := atU_is hk
    rw [List.getElem?_eq_getElem hkl]
    dsimp only
    rw [if_neg (show ¬ (4 : Int) = 2 by decide), if_neg (show ¬ (4 : Int) = 3 by decide), if_pos (show (4 : Int) = 4 from rfl), erase_kept h hk]
end

end Go.Proofs.YtenkpgnkkkgdmauGreatDoor

namespace Go.Proofs.YtenkpgnkkkgdmauGreatDoor
open Go.RowKit
set_option linter.unusedVariables false

theorem implKind_any (k : Int) (w : World) :
    Calls Tryz.prog 97 #[.int .i64 k] w fun e w' => e = .returned (.bool (decide (1 ≤ k ∧ k ≤ 4))) ∧ w' = w := by
  by_cases h1 : 1 ≤ k
  · by_cases h4 : k ≤ 4
    · have HF : Hid (decide (1 ≤ k ∧ k ≤ 4) = true) := decide_eq_true ⟨h1, h4⟩
      have d1 : decide (1 ≤ k) = true := decide_eq_true h1
      have d4 : decide (k ≤ 4) = true := decide_eq_true h4
      rw [HF.out]
      go_enter Tryz.func97, Tryz.ntmps97
      go_wp2_with fail
      go_ret
      exact ⟨rfl, rfl⟩
    · have HF : Hid (decide (1 ≤ k ∧ k ≤ 4) = false) := decide_eq_false (fun h => h4 h.2)
      have d1 : decide (1 ≤ k) = true := decide_eq_true h1
      have d4 : decide (k ≤ 4) = false := decide_eq_false h4
      rw [HF.out]
      go_enter Tryz.func97, Tryz.ntmps97
      go_wp2_with fail
      go_ret
      exact ⟨rfl, rfl⟩
  · have HF : Hid (decide (1 ≤ k ∧ k ≤ 4) = false) := decide_eq_false (fun h => h1 h.1)
    have d1 : decide (1 ≤ k) = false := decide_eq_false h1
    rw [HF.out]
    go_enter Tryz.func97, Tryz.ntmps97
    go_wp2_with fail
    go_ret
    exact ⟨rfl, rfl⟩

end Go.Proofs.YtenkpgnkkkgdmauGreatDoor
