/- What the program's fold makes of a record that begins an upload. What the program's fitsUp answers. A list of bytes as what is appended. No program in it. Rows of bytes that grow: an append as a step of a region that draws, PutBig onto a row of the call's own, a row as a text. An append of whatever may be appended, and where its row lies: where it lay, or behind all. No program in it. -/
import Derived.Test.YtogopmngbjkcjavGreatDoorM06
import Derived.Test.YtogopmngbjkcjavGreatDoorM08
import Derived.Test.YtogopmngbjkcjavGreatDoorM08
import Derived.Test.YtogopmngbjkcjavGreatDoorM08
import Derived.Test.YtogopmngbjkcjavGreatDoorM08
import Derived.Deep.CutBlock
import Derived.Test.YtogopmngbjkcjavGreatDoorM05
import Derived.Test.YtogopmngbjkcjavGreatDoorM07
import Derived.Test.YtogopmngbjkcjavGreatDoorM01
import Derived.Test.YtogopmngbjkcjavGreatDoorM04
import Derived.Test.YtogopmngbjkcjavGreatDoorM02
import Derived.Deep.RegionLaw
import Derived.Laws.IdiomStrings
namespace Go.Proofs.YtogopmngbjkcjavGreatDoor
open Go.RowKit
set_option linter.unusedVariables false

/-- What is behind a record: the uploads that it makes, or it gave up. -/
def FoldAns (w : World) (base fb : Nat) (o : Option (List U)) (e : Ending) (w' : World) : Prop :=
  ((o = none ∧ Pan e) ∨ ∃ a n c l, e = .returned (.tuple #[]) ∧ o = some (l.map UE.u) ∧ n = l.length ∧ BoxN w' fb 158 [.slice a n c] ∧ UpRow w' base (.slice a n c) l) ∧ Below base w w'

set_option maxRecDepth 10000 in
set_option maxHeartbeats 800000 in
theorem begin_no (fb base : Nat) (a : Option Addr) (n c : Nat) (l : List UE) (e q k : Int) (id : ByteArray) (rn : Int) (ra : Option Addr) (d ca : Nat) (w : World) (hf : BoxN w fb 158 [.slice a n c]) (h : UpRow w base (.slice a n c) l) (hn : n = l.length) (hl : n ≤ 1099511627776) (he : ErrN w) (hno : ¬ (atU (l.map UE.u) id = none ∧ n < 10)) :
    Calls Tryz.prog 155 #[.pointer (some ⟨fb, 0, none⟩), .agg #[.int .i64 e, .int .i64 q, .int .i64 k, .string id, .int .i64 rn, .slice ra d ca]] w fun e w' => Pan e ∧ Below w.heap.size w w' := by
  obtain ⟨w0, hw0⟩ : ∃ w0, w.alloc (.cells #[.int .i64 e, .int .i64 q, .int .i64 k, .string id, .int .i64 rn, .slice ra d ca] 106) = w0 := ⟨_, rfl⟩
  have HE : Hid (w.alloc (.cells #[.int .i64 e, .int .i64 q, .int .i64 k, .string id, .int .i64 rn, .slice ra d ca] 106) = w0) := hw0
  have HQ : Hid (BoxN w0 w.heap.size 106 [.int .i64 e, .int .i64 q, .int .i64 k, .string id, .int .i64 rn, .slice ra d ca]) := by show BoxN _ _ _ _; rw [← hw0]; exact BoxN.new _ _ _
  have HB : Hid (Below w.heap.size w w0) := by show Below _ _ _; rw [← hw0]; exact (Below.refl _ _).alloc (Nat.le_refl _) _
  have HX : Hid (∀ W, Below w0.heap.size w0 W → BoxN W fb 158 [.slice a n c] ∧ UpRow W base (.slice a n c) l ∧ ErrN W ∧ Below w.heap.size w W ∧ BoxN W w.heap.size 106 [.int .i64 e, .int .i64 q, .int .i64 k, .string id, .int .i64 rn, .slice ra d ca]) := fun W hb => ⟨(hf.stays HB.out).stays hb, (h.stays HB.out).stays hb, (he.below HB.out).below hb, HB.out.trans (hb.mono HB.out.size), HQ.out.stays hb⟩
  have HN : Hid (n = l.length) := hn
  have hfl : fb < w0.heap.size := (HX.out w0 (Below.refl _ _)).1.lt
  have hrl : w.heap.size < w0.heap.size := HQ.out.lt
  have f0 : ∀ P : Past w0, P.world.cell? ⟨fb, 0, none⟩ = some (.slice a n c) := fun P => (HX.out _ P.below).1.cell 0 rfl
  have r3 : ∀ P : Past w0, P.world.cell? ⟨w.heap.size, 3, none⟩ = some (.string id) := fun P => (HX.out _ P.below).2.2.2.2.cell 3 rfl
  have hne := past_some w0
  have HRe : Hid (∀ P : Past w0, Calls Tryz.prog 167 #[.slice a n c, .string id] P.world fun e w' => e = .returned (.pointer (reachUO a (atU (l.map UE.u) id))) ∧ Below P.world.heap.size P.world w') := fun P => implReachU_any a n c base id l P.world (HX.out _ P.below).2.1 HN.out hl
  clear hw0 hf h hn he HQ HB
  cases hk : atU (l.map UE.u) id with
  | none =>
    rw [hk, reachUO_none] at HRe
    have hn10 : ¬ n < 10 := fun h => hno ⟨hk, h⟩
    have d1 : decide ((n : Int) < 10) = false := by simp; omega
    clear hk hno
    go_enter Tryz.func155, Tryz.ntmps155
    go_upto_region 1 with fail
    rw [HE.out]
    clear HE
    refine wp_region_past_tail 16 (by kernel_rfl) (by kernel_rfl) (fun ops HO => ?_)
    simp only [List.take_succ_cons, List.take_zero, List.drop_succ_cons, List.drop_zero]
    iterate 9 (quiet_step ((first | (go_at_call 167; with_reducible exact calls_past (HRe.out _)) | fail)))
    iterate 6 (refine quiet_do (by rw [HO.out]; kernel_rfl) (fun K hK => ?_); go_simp; (refine hK _ ?_; clear hK K))
    iterate 1 (quiet_step ((first | (go_at_call 167; with_reducible exact calls_past (HRe.out _)) | fail)))
    refine wpQuiet_nil ?_
    rintro _ ⟨z, rfl⟩
    go_wp2_with fail
    refine (mustFit_no _ (HX.out _ z.below).2.2.1).mono ?_
    rintro _ x2 ⟨⟨t, v, rfl⟩, rfl⟩
    go_wp2_with fail
    exact ⟨rfl, ⟨t, v, rfl⟩, (HX.out _ z.below).2.2.2.1⟩
  | some kk =>
    obtain ⟨g, hg⟩ : ∃ g, a = some ⟨g, 0, none⟩ := by
      obtain ⟨g, hg, _⟩ := (HX.out w0 (Below.refl _ _)).2.1.at HN.out (by simpa using (atU_is hk).1)
      exact ⟨g, hg⟩
    subst hg
    rw [hk] at HRe
    have HRe2 : Hid (∀ P : Past w0, Calls Tryz.prog 167 #[.slice (some ⟨g, 0, none⟩) n c, .string id] P.world fun e w' => e = .returned (.pointer (some ⟨g, kk * 4, none⟩)) ∧ Below P.world.heap.size P.world w') := HRe.out
    clear hk hno HRe
    go_enter Tryz.func155, Tryz.ntmps155
    go_upto_region 1 with fail
    rw [HE.out]
    clear HE
    refine wp_region_past_tail 16 (by kernel_rfl) (by kernel_rfl) (fun ops HO => ?_)
    simp only [List.take_succ_cons, List.take_zero, List.drop_succ_cons, List.drop_zero]
    iterate 9 (quiet_step ((first | (go_at_call 167; with_reducible exact calls_past (HRe2.out _)) | fail)))
    iterate 6 (refine quiet_past (by rw [HO.out]; kernel_rfl) ?_)
    iterate 1 (quiet_step ((first | (go_at_call 167; with_reducible exact calls_past (HRe.out _)) | fail)))
    refine wpQuiet_nil ?_
    rintro _ ⟨z, rfl⟩
    go_wp2_with fail
    refine (mustFit_no _ (HX.out _ z.below).2.2.1).mono ?_
    rintro _ x2 ⟨⟨t, v, rfl⟩, rfl⟩
    go_wp2_with fail
    exact ⟨rfl, ⟨t, v, rfl⟩, (HX.out _ z.below).2.2.2.1⟩

set_option maxRecDepth 10000 in
set_option maxHeartbeats 1600000 in
theorem begin_yes (fb base : Nat) (a : Option Addr) (n c : Nat) (l : List UE) (e q k : Int) (id : ByteArray) (rn : Int) (ra : Option Addr) (d ca : Nat) (w : World) (hf : BoxN w fb 158 [.slice a n c]) (h : UpRow w base (.slice a n c) l) (hn : n = l.length) (hl : n ≤ 1099511627776) (he : ErrN w) (hbase : base ≤ w.heap.size) (hfb : base ≤ fb) (hno : atU (l.map UE.u) id = none ∧ n < 10) :
    Calls Tryz.prog 155 #[.pointer (some ⟨fb, 0, none⟩), .agg #[.int .i64 e, .int .i64 q, .int .i64 k, .string id, .int .i64 rn, .slice ra d ca]] w fun e w' => (∃ a' c', e = .returned (.tuple #[]) ∧ BoxN w' fb 158 [.slice a' (n + 1) c'] ∧ UpRow w' base (.slice a' (n + 1) c') (l.take (lessU (l.map UE.u) id) ++ [⟨⟨id, rn, [], false⟩, none, 0, 0⟩] ++ l.drop (lessU (l.map UE.u) id))) ∧ Below base w w' := by
  obtain ⟨w0, hw0⟩ : ∃ w0, w.alloc (.cells #[.int .i64 e, .int .i64 q, .int .i64 k, .string id, .int .i64 rn, .slice ra d ca] 106) = w0 := ⟨_, rfl⟩
  have HE : Hid (w.alloc (.cells #[.int .i64 e, .int .i64 q, .int .i64 k, .string id, .int .i64 rn, .slice ra d ca] 106) = w0) := hw0
  have HQ : Hid (BoxN w0 w.heap.size 106 [.int .i64 e, .int .i64 q, .int .i64 k, .string id, .int .i64 rn, .slice ra d ca]) := by show BoxN _ _ _ _; rw [← hw0]; exact BoxN.new _ _ _
  have HB : Hid (Below w.heap.size w w0) := by show Below _ _ _; rw [← hw0]; exact (Below.refl _ _).alloc (Nat.le_refl _) _
  have HX : Hid (∀ W, Below w0.heap.size w0 W → BoxN W fb 158 [.slice a n c] ∧ UpRow W base (.slice a n c) l ∧ ErrN W ∧ Below w.heap.size w W ∧ BoxN W w.heap.size 106 [.int .i64 e, .int .i64 q, .int .i64 k, .string id, .int .i64 rn, .slice ra d ca]) := fun W hb => ⟨(hf.stays HB.out).stays hb, (h.stays HB.out).stays hb, (he.below HB.out).below hb, HB.out.trans (hb.mono HB.out.size), HQ.out.stays hb⟩
  have HN : Hid (n = l.length) := hn
  have hfl : fb < w0.heap.size := (HX.out w0 (Below.refl _ _)).1.lt
  have hrl : w.heap.size < w0.heap.size := HQ.out.lt
  have f0 : ∀ P : Past w0, P.world.cell? ⟨fb, 0, none⟩ = some (.slice a n c) := fun P => (HX.out _ P.below).1.cell 0 rfl
  have r3 : ∀ P : Past w0, P.world.cell? ⟨w.heap.size, 3, none⟩ = some (.string id) := fun P => (HX.out _ P.below).2.2.2.2.cell 3 rfl
  have hne := past_some w0
  have HRe : Hid (∀ P : Past w0, Calls Tryz.prog 167 #[.slice a n c, .string id] P.world fun e w' => e = .returned (.pointer (reachUO a (atU (l.map UE.u) id))) ∧ Below P.world.heap.size P.world w') := fun P => implReachU_any a n c base id l P.world (HX.out _ P.below).2.1 HN.out hl
  clear hw0 hf h hn he HQ HB
  have r4 : ∀ P : Past w0, P.world.cell? ⟨w.heap.size, 4, none⟩ = some (.int .i64 rn) := fun P => (HX.out _ P.below).2.2.2.2.cell 4 rfl
  rw [hno.1, reachUO_none] at HRe
  have d1 : decide ((n : Int) < 10) = true := by simp; omega
  have HMf : Hid (∀ P : Past w0, Calls Tryz.prog 159 #[.bool true] P.world fun e w' => e = .returned (.tuple #[]) ∧ Below P.world.heap.size P.world w') := fun P => (mustFit_yes _).mono (fun e w' h => ⟨h.1, by rw [h.2]; exact Below.refl _ _⟩)
  have hn10 : n ≤ 1048576 := by omega
  clear hno
  go_enter Tryz.func155, Tryz.ntmps155
  go_upto_region 1 with fail
  rw [HE.out]
  clear HE
  refine wp_region_pastO (by kernel_rfl) (by kernel_rfl) fun ops HO => ?_
  iterate 9 (quiet_step ((first | (go_at_call 167; with_reducible exact calls_past (HRe.out _)) | (go_at_call 159; with_reducible exact calls_past (HMf.out _)) | fail)))
  iterate 6 (refine quiet_do (by rw [HO.out]; kernel_rfl) (fun K hK => ?_); go_simp; (refine hK _ ?_; clear hK K))
  iterate 2 (quiet_step ((first | (go_at_call 167; with_reducible exact calls_past (HRe.out _)) | (go_at_call 159; with_reducible exact calls_past (HMf.out _)) | fail)))
  refine wpQuiet_nil ?_
  rintro _ ⟨z, rfl⟩
  have HBz : Hid (Below w0.heap.size w0 z.world) := z.below
  obtain ⟨W, hW⟩ : ∃ W, z.world = W := ⟨_, rfl⟩
  rw [hW] at HBz ⊢
  clear hW z ops HO f0 r3 r4 hne HRe HMf
  go_upto_region 2 with fail
  have f0 : ∀ P : Past W, P.world.cell? ⟨fb, 0, none⟩ = some (.slice a n c) := fun P => (HX.out _ (HBz.out.trans (P.below.mono HBz.out.size))).1.cell 0 rfl
  have r3 : ∀ P : Past W, P.world.cell? ⟨w.heap.size, 3, none⟩ = some (.string id) := fun P => (HX.out _ (HBz.out.trans (P.below.mono HBz.out.size))).2.2.2.2.cell 3 rfl
  have r4 : ∀ P : Past W, P.world.cell? ⟨w.heap.size, 4, none⟩ = some (.int .i64 rn) := fun P => (HX.out _ (HBz.out.trans (P.below.mono HBz.out.size))).2.2.2.2.cell 4 rfl
  have hne := past_some W
  refine wp_region_past_tail1 10 (by kernel_rfl) (by kernel_rfl) (by kernel_rfl) (by kernel_rfl) rfl rfl _ rfl (fun ops HO => ?_)
  simp only [List.take_succ_cons, List.take_zero, List.drop_succ_cons, List.drop_zero]
  iterate 9 (quiet_step ((first | fail)))
  refine wpQuiet_nil ?_
  rintro _ ⟨z, rfl⟩
  have HB2 : Hid (Below w0.heap.size w0 z.world) := HBz.out.trans (z.below.mono HBz.out.size)
  obtain ⟨W2, hW2⟩ : ∃ W2, z.world = W2 := ⟨_, rfl⟩
  rw [hW2] at HB2 ⊢
  clear hW2 z HBz f0 r3 r4 hne
  have hx := HX.out _ HB2.out
  have HOw : Hid (OwnU W2 base a n c l) := by
    have h := hx.2.1.1
    rw [← HN.out] at h
    exact h
  have HU2 : Hid (UpRow W2 base (.slice a n c) l) := hx.2.1
  have HF2 : Hid (BoxN W2 fb 158 [.slice a n c]) := hx.1
  have HBw : Hid (Below w.heap.size w W2) := hx.2.2.2.1
  have HBs : Hid (base ≤ W2.heap.size) := Nat.le_trans hbase hx.2.2.2.1.size
  clear hx
  have hcall := implWithU_any base a n c l ⟨⟨id, rn, [], false⟩, none, 0, 0⟩ W2 HOw.out hn10 HBs.out
  dsimp only at hcall
  have HC : Hid (Calls Tryz.prog 171 #[.slice a n c, .agg #[.string id, .int .i64 rn, .slice none 0 0, .bool false]] W2 fun e w' => ∃ A' C', e = .returned (.slice A' (n + 1) C') ∧ OwnU w' base A' (n + 1) C' (l.take (lessU (l.map UE.u) id) ++ [⟨⟨id, rn, [], false⟩, none, 0, 0⟩] ++ l.drop (lessU (l.map UE.u) id)) ∧ W2.grownBy w' (a.map (·.block))) := hcall
  clear hcall
  go_wp2_with fail
  refine HC.out.mono ?_
  rintro _ W3 ⟨A', C', rfl, ho3, hg3⟩
  have hlen := ho3.len
  have hF3 : BoxN W3 fb 158 [.slice a n c] := HF2.out.grown hg3 (fun e => HF2.out.noRow HU2.out.1 (by decide) (by rw [ownBlock_sU]; exact e))
  have hg3' : W2.grownBy W3 (Value.slice a n c).ownBlock := by rw [ownBlock_sU]; exact hg3
  have hU3 : UpRow W3 base (.slice A' (n + 1) C') (l.take (lessU (l.map UE.u) id) ++ [⟨⟨id, rn, [], false⟩, none, 0, 0⟩] ++ l.drop (lessU (l.map UE.u) id)) := by
    refine HU2.out.remade ?_ hg3' ?_ (upair_ins _ HU2.out.2.2 rfl)
    · rw [hlen]; exact ho3
    · intro x hx
      rcases List.mem_append.1 hx with hx | hx
      · rcases List.mem_append.1 hx with hx | hx
        · exact .inl (List.mem_of_mem_take hx)
        · obtain rfl : x = ⟨⟨id, rn, [], false⟩, none, 0, 0⟩ := by simpa using hx
          exact .inr ⟨rfl, rfl, rfl, rfl⟩
      · exact .inl (List.mem_of_mem_drop hx)
  have f3 := hF3.cell 0 rfl
  have z3 := hF3.frozen 0
  have HR : Hid (BoxN (W3.setCell ⟨fb, 0, none⟩ (.slice A' (n + 1) C')) fb 158 [.slice A' (n + 1) C'] ∧ UpRow (W3.setCell ⟨fb, 0, none⟩ (.slice A' (n + 1) C')) base (.slice A' (n + 1) C') (l.take (lessU (l.map UE.u) id) ++ [⟨⟨id, rn, [], false⟩, none, 0, 0⟩] ++ l.drop (lessU (l.map UE.u) id)) ∧ Below base w (W3.setCell ⟨fb, 0, none⟩ (.slice A' (n + 1) C'))) := by
    refine ⟨hF3.set 0 _, hU3.setBox hF3 (by decide) (by decide), ?_⟩
    have h1 : Below base w W2 := HBw.out.mono hbase
    have h2 := h1.grown hg3' HBs.out (fun q hq => (HU2.out.lts.1 q hq).1)
    exact h2.setCell (by dsimp only; omega) _
  clear ho3 hg3 hg3' hlen hF3 hU3
  go_wp2_with fail
  go_end0
  exact ⟨⟨A', C', rfl, HR.out.1, HR.out.2.1⟩, HR.out.2.2⟩

end Go.Proofs.YtogopmngbjkcjavGreatDoor

namespace Go.Proofs.YtogopmngbjkcjavGreatDoor
open Go.RowKit
set_option linter.unusedVariables false

/-- Whether so many bytes may stand from off on. -/
def fitB (u : U) (off : Int) (d : Nat) : Bool := !u.done && decide (off = (u.zs.length : Int)) && decide ((d : Int) ≤ u.want - off)

/-- What is there is no more than is wanted; what is wanted is a number of the machine's. -/
def UFit (u : U) : Prop := (-9223372036854775808 ≤ u.want ∧ u.want ≤ 9223372036854775807) ∧ ((u.zs.length : Int) ≤ u.want ∨ u.zs = [])

set_option maxRecDepth 10000 in
set_option maxHeartbeats 800000 in
theorem implFits_any (g o : Nat) (u : U) (a : Option Addr) (n c : Nat) (off : Int) (da : Option Addr) (d dc : Nat) (w : World) (h1 : w.cell? ⟨g, o + 1, none⟩ = some (.int .i64 u.want)) (h2 : w.cell? ⟨g, o + 2, none⟩ = some (.slice a n c)) (h3 : w.cell? ⟨g, o + 3, none⟩ = some (.bool u.done)) (hn : u.zs.length = n) (hf : UFit u) (hl : n ≤ 1099511627776) (hd : d ≤ 1099511627776) :
    Calls Tryz.prog 164 #[.pointer (some ⟨g, o, none⟩), .int .i64 off, .slice da d dc] w fun e w' => e = .returned (.bool (fitB u off d)) ∧ w' = w := by
  cases hdn : u.done with
  | true =>
    rw [hdn] at h3
    have HF : Hid (fitB u off d = false) := by show _ = _; rw [fitB, hdn]; rfl
    clear hdn hn hf
    go_enter Tryz.func164, Tryz.ntmps164
    go_wp2_with fail
    go_ret
    exact ⟨by rw [HF.out]; rfl, rfl⟩
  | false =>
    rw [hdn] at h3
    by_cases ho : off = (n : Int)
    case neg =>
      have HF : Hid (fitB u off d = false) := by show _ = _; rw [fitB, decide_eq_false (by omega)]; simp
      have e1 : (off == (n : Int)) = false := by simpa using ho
      clear hdn hn hf
      go_enter Tryz.func164, Tryz.ntmps164
      go_wp2_with fail
      go_ret
      exact ⟨by rw [HF.out]; rfl, rfl⟩
    have hw : IntKind.i64.wrap (u.want - off) = u.want - off := by
      obtain ⟨⟨w1, w2⟩, w3⟩ := hf
      have hz : u.zs = [] → n = 0 := fun h => by rw [← hn, h]; rfl
      rw [IntKind.wrap_i64]
      rcases w3 with w3 | w3
      · omega
      · have := hz w3; omega
    have HF : Hid (fitB u off d = decide ((d : Int) ≤ u.want - off)) := by show _ = _; rw [fitB, hdn, decide_eq_true (by omega)]; simp
    have e1 : (off == (n : Int)) = true := by simpa using ho
    subst ho
    clear hdn hn hf
    obtain ⟨t, ht⟩ : ∃ t, u.want - (n : Int) = t := ⟨_, rfl⟩
    rw [ht] at HF hw
    have hw2 : IntKind.i64.wrap (u.want - (n : Int)) = t := by rw [ht]; exact hw
    go_enter Tryz.func164, Tryz.ntmps164
    go_wp2_with fail
    go_ret
    exact ⟨by rw [HF.out]; rfl, rfl⟩

end Go.Proofs.YtogopmngbjkcjavGreatDoor

namespace Go.Proofs.YtogopmngbjkcjavGreatDoor
open Go.RowKit
set_option linter.unusedVariables false

theorem ownBlock_of (a : Option Addr) (n cap : Nat) : (Value.slice a n cap).ownBlock = a.map (·.block) := by cases a <;> rfl

theorem seg_nil {w : World} {a : Option Addr} {len : Nat} {zs : List Int} (hs : Seg w a len zs) : a = none → len = 0 := by
  intro h
  rcases hs.2.2 with h0 | ⟨b, off, e, _⟩
  · exact h0
  · rw [h] at e; cases e

theorem seg_src {w : World} {a : Option Addr} {len : Nat} {zs : List Int} (hs : Seg w a len zs) : ∀ ad, a = some ad → ∀ j u, (zs.map (Value.int .u8))[j]? = some u → w.cell? (ad.add j) = some u := by
  intro ad ha j u hj
  have hl2 : j < zs.length := by
    by_cases h : j < zs.length
    · exact h
    · rw [List.getElem?_eq_none (by simp; omega)] at hj; cases hj
  rcases hs.2.2 with h | ⟨b, off, h, _⟩
  · have := hs.1; omega
  · rw [ha] at h
    injection h with h
    subst h
    subst ha
    exact cells_ints hs j u hj

end Go.Proofs.YtogopmngbjkcjavGreatDoor

namespace Go.Proofs.YtogopmngbjkcjavGreatDoor
open Go.RowKit
set_option linter.unusedVariables false

theorem step_append_app {P : Program} {ops : Array Oper} {o : Oper} {a : Act} {w : World} {K : Act → World → Prop} {Q : Exit → Act → World → Prop} {E : Prop} (hgd : o.guard = none) (s x : Operand) (t tx : TypeId)
    (ho : o.op = .call { callee := .builtin .append, args := #[s, x], argTypes := #[t, tx] })
    (base : Nat) (e : TypeId) (i : TypeInfo) (z : Value) (size bytes : Nat) (ht : P.underlying t = some (.slice e)) (hi : P.info? e = some i) (hz : i.zero = some z)
    (hsize : i.size = size) (hby : i.bytes = bytes) (hzs : z.cells.size = size) (hsz : 0 < size)
    (g n cap : Nat) (xs : List Value) (hs : a.eval s = .slice (some ⟨g, 0, none⟩) n cap) (hown : w.ownsRow base e size (.slice (some ⟨g, 0, none⟩) n cap) n xs)
    (u : Value) (m : Nat) (news : List Value) (hx : a.eval x = u) (hsrc : Src P size tx u m news w)
    (h63 : n + m ≤ maxLen) (hbytes : (n + m) * bytes ≤ 140737488355328) (hbase : base ≤ w.heap.size) (M : Nat) (hM : n + m = M) (hM0 : 0 < M) (ys : List Value) (hys : xs ++ news = ys)
    (h : ∀ g' c' w', w'.ownsRow base e size (.slice (some ⟨g', 0, none⟩) M c') M ys → w.grownBy w' (some g) → K (a.put o.dst (.slice (some ⟨g', 0, none⟩) M c')) w') :
    if Region.wanted o (yielded ops a.tmps) = true then Oper.wp P o a w K Q else E := by
  have hw : Region.wanted o (yielded ops a.tmps) = true := by simp [Region.wanted, hgd]
  rw [if_pos hw]
  obtain ⟨v', w', hr, h2, h3⟩ := run_append_any (P := P) w base t tx o.type e i z size bytes ht hi hz hsize hby hzs hsz g n cap xs hown u m news hsrc h63 hbytes hbase
  unfold Oper.wp execOp
  simp only [ho, resolve, invoke, builtin, Sem.run_bind, Sem.run_pure, Result.andThen_ok, List.map_toArray, List.map_cons, List.map_nil, hs, hx, hr]
  rw [hM, hys] at h2
  rcases h2.2 with ⟨_, h0⟩ | ⟨g', c', cur, rfl, _⟩
  · omega
  · exact h g' c' w' h2 h3

theorem owns_low {w : World} {base lo n cap : Nat} {a : Option Addr} {zs : List Int} (h : Owns w base a n cap zs) (hl : lo ≤ base) : Owns w lo a n cap zs := ⟨own_low h.1 hl, h.2⟩

/-- Where a row of some bytes lies. -/
theorem owns_at {w : World} {base n cap : Nat} {a : Option Addr} {zs : List Int} (h : Owns w base a n cap zs) (hn : 0 < n) : ∃ g, a = some ⟨g, 0, none⟩ ∧ base ≤ g ∧ g < w.heap.size := by
  rcases h.1.2 with ⟨_, h0⟩ | ⟨g, cap', cur, he, hb, hg, _⟩
  · omega
  · injection he with e1 _ _
    exact ⟨g, e1, hb, (Array.getElem?_eq_some_iff.1 hg).1⟩

/-- A row of bytes as a text. -/
theorem conv_txt {W : World} {g M c : Nat} {zs : List Int} (h : Seg W (some ⟨g, 0, none⟩) M zs) : (convert 45 9 (.slice (some ⟨g, 0, none⟩) M c)).run Tryz.prog W = .ok (.string (txU zs)) W := by
  have hl : (zs.map fun z => UInt8.ofNat z.toNat).length = M := by rw [List.length_map, h.1]
  have hr := run_convert_bytes_back (P := Tryz.prog) W 45 9 5 ⟨g, 0, none⟩ c (zs.map fun z => UInt8.ofNat z.toNat) Tryz.underlying45 (by kernel_rfl) (by kernel_rfl) (by
    intro j hj
    have hjM : j < M := by omega
    have hp : (⟨g, 0, none⟩ : Addr).add j = ⟨g, j, none⟩ := by unfold Addr.add; split <;> simp_all
    rw [hp]
    rcases h.2.2 with h0 | ⟨b, off, e, _, hc⟩
    · omega
    · injection e with e
      injection e with e1 e2 _
      subst e1 e2
      have := hc j hjM
      rw [Nat.zero_add] at this
      rw [this]
      have hjz : j < zs.length := by rw [h.1]; exact hjM
      have hz := h.2.1 zs[j] (List.getElem_mem hjz)
      rw [List.getD_eq_getElem?_getD, List.getElem?_eq_getElem hjz]
      simp
      omega)
  rw [hl] at hr
  exact hr

/-- A part of bytes. -/
theorem Seg.part7 {w : World} {b len : Nat} {zs : List Int} (h : Seg w (some ⟨b, 0, none⟩) len zs) (T n : Nat) (hT : T + n ≤ len) : Seg w (some ⟨b, T, none⟩) n ((zs.drop T).take n) := by
  obtain ⟨h1, h2, h3⟩ := h
  refine ⟨by simp; omega, fun x hx => h2 x (List.mem_of_mem_drop (List.mem_of_mem_take hx)), ?_⟩
  by_cases hn : n = 0
  · exact .inl hn
  · rcases h3 with h0 | ⟨b', off, e, hb, hc⟩
    · omega
    · injection e with e
      injection e with e1 e2 _
      subst e1 e2
      refine .inr ⟨b, T, rfl, hb, fun i hi => ?_⟩
      have := hc (T + i) (by omega)
      rw [Nat.zero_add] at this
      rw [this]
      simp [List.getD_eq_getElem?_getD, List.getElem?_drop, hi]

/-- A part of bytes as a text. -/
theorem conv_txt_at {W : World} {g o M c : Nat} {zs : List Int} (h : Seg W (some ⟨g, o, none⟩) M zs) : (convert 45 9 (.slice (some ⟨g, o, none⟩) M c)).run Tryz.prog W = .ok (.string (txU zs)) W := by
  have hl : (zs.map fun z => UInt8.ofNat z.toNat).length = M := by rw [List.length_map, h.1]
  have hr := run_convert_bytes_back (P := Tryz.prog) W 45 9 5 ⟨g, o, none⟩ c (zs.map fun z => UInt8.ofNat z.toNat) Tryz.underlying45 (by kernel_rfl) (by kernel_rfl) (by
    intro j hj
    have hjM : j < M := by omega
    have hp : (⟨g, o, none⟩ : Addr).add j = ⟨g, o + j, none⟩ := by unfold Addr.add; split <;> simp_all
    rw [hp]
    rcases h.2.2 with h0 | ⟨b, off, e, _, hc⟩
    · omega
    · injection e with e
      injection e with e1 e2 _
      subst e1 e2
      rw [hc j hjM]
      have hjz : j < zs.length := by rw [h.1]; exact hjM
      have hz := h.2.1 zs[j] (List.getElem_mem hjz)
      rw [List.getD_eq_getElem?_getD, List.getElem?_eq_getElem hjz]
      simp
      omega)
  rw [hl] at hr
  exact hr

theorem Seg.src {W : World} {a : Option Addr} {d c : Nat} {zs : List Int} (hs : Seg W a d zs) : Src Tryz.prog 1 45 (.slice a d c) d (zs.map (Value.int .u8)) W := by
  cases a with
  | none =>
    have h0 : d = 0 := seg_nil hs rfl
    subst h0
    obtain rfl : zs = [] := List.eq_nil_of_length_eq_zero hs.1
    exact Src.ofNil _ Tryz.underlying45 c
  | some ad => exact Src.ofSlice _ Tryz.underlying45 ad d c _ (by rw [List.length_map, hs.1, Nat.mul_one]) (seg_src hs ad rfl) (ints_one zs)

theorem byteCells_txI (s : ByteArray) : byteCells s = (txI s).map (Value.int .u8) := by
  simp [byteCells, txI]

end Go.Proofs.YtogopmngbjkcjavGreatDoor

namespace Go.Proofs.YtogopmngbjkcjavGreatDoor
open Go.RowKit
set_option linter.unusedVariables false

theorem run_append_loc {P : Program} (w : World) (base : Nat) (t tx ty e : TypeId) (i : TypeInfo) (z : Value) (size bytes : Nat) (ht : P.underlying t = some (.slice e)) (hi : P.info? e = some i) (hz : i.zero = some z)
    (hsize : i.size = size) (hby : i.bytes = bytes) (hzs : z.cells.size = size) (hsz : 0 < size)
    (g n cap : Nat) (xs : List Value) (hown : w.ownsRow base e size (.slice (some ⟨g, 0, none⟩) n cap) n xs)
    (x : Value) (m : Nat) (news : List Value) (hs : Src P size tx x m news w)
    (h63 : n + m ≤ maxLen) (hbytes : (n + m) * bytes ≤ 140737488355328) (hbase : base ≤ w.heap.size) :
    ∃ g' c' w', (Builtin.append_ #[t, tx] ty #[.slice (some ⟨g, 0, none⟩) n cap, x]).run P w = .ok (.slice (some ⟨g', 0, none⟩) (n + m) c') w' ∧ w'.ownsRow base e size (.slice (some ⟨g', 0, none⟩) (n + m) c') (n + m) (xs ++ news) ∧ w.grownBy w' (some g) ∧ (g' = g ∨ g' = w.heap.size) := by
  subst hsize
  subst hby
  have hsmall : n + m ≤ 9223372036854775807 := by simp only [maxLen] at h63; omega
  have hl := hs.newsLen
  have hlen : (xs ++ news).length = (n + m) * i.size := by rw [List.length_append, hown.1, hl, Nat.add_mul]
  rcases hown.2 with ⟨h, _⟩ | ⟨g', cap', cur, heq, hbg, hg, hnc, hcm, hcs, htake⟩
  · cases h
  · injection heq with e1 e2 e3
    injection e1 with e1
    injection e1 with e1
    subst e1
    subst e3
    by_cases hroom : n + m ≤ cap
    · have hfit : n * i.size + news.length ≤ cur.size := by rw [hl, hcs, ← Nat.add_mul]; exact Nat.mul_le_mul_right _ hroom
      have hr := run_room_any w t tx ty e i ht hi g n cap cur hg x m news hs hroom hfit
      refine ⟨_, _, _, hr, ⟨hlen, .inr ⟨g, cap, _, rfl, hbg, setRow_heap w g cur _ e _ hg, hroom, hcm, ?_, ?_⟩⟩, ⟨rfl, rfl, rfl, by simp, fun k _ hk => setRow_other w g k _ (fun e => hk (by simp [e]))⟩, .inl rfl⟩
      · simp only [List.size_toArray, List.length_append, List.length_take, List.length_drop, Array.length_toList]
        omega
      · rw [htake, ← hlen]
        exact List.take_left
    · have holds : ∀ j u, xs[j]? = some u → w.cell? ((⟨g, 0, none⟩ : Addr).add j) = some u := hown.cells (g := g) rfl
      have hold := run_firstCells_some (P := P) w.drew i.size n ⟨g, 0, none⟩ n cap xs hown.1 (by simpa using holds)
      have hr := run_append_grow_src (P := P) w t tx ty e i z ht hi hz (some ⟨g, 0, none⟩) n cap xs hold x m news hs (by omega) (by omega) (growslice_fits (by omega) hbytes)
      have hge := grownCap_ge w (n + m) cap e
      have hcm' : grownCap w (n + m) cap e ≤ maxLen := grownCap_le_maxLen w (n + m) cap e h63
      refine ⟨_, _, _, hr, ⟨hlen, .inr ⟨w.heap.size, _, _, rfl, hbase, heap_alloc_new w.drew _, hge, hcm', ?_, ?_⟩⟩, ⟨rfl, rfl, rfl, by simp, fun k hk _ => heap_alloc_old w.drew _ hk⟩, .inr rfl⟩
      · simp only [Array.size_append, List.size_toArray, size_zeroCells, hzs, hlen, ← Nat.add_mul]
        congr 1
        omega
      · simp only [Array.toList_append]
        rw [← hlen]
        exact List.take_left

theorem wpList_append_loc {P : Program} {w : World} {ops : Array Oper} {rest : List Oper} {o : Oper} {a : Act} {Q : Exit → Act → World → Prop} (hgd : o.guard = none) (s x : Operand) (t tx : TypeId)
    (ho : o.op = .call { callee := .builtin .append, args := #[s, x], argTypes := #[t, tx] })
    (base : Nat) (e : TypeId) (i : TypeInfo) (z : Value) (size bytes : Nat) (ht : P.underlying t = some (.slice e)) (hi : P.info? e = some i) (hz : i.zero = some z)
    (hsize : i.size = size) (hby : i.bytes = bytes) (hzs : z.cells.size = size) (hsz : 0 < size)
    (g n cap : Nat) (xs : List Value) (hs : a.eval s = .slice (some ⟨g, 0, none⟩) n cap) (hown : w.ownsRow base e size (.slice (some ⟨g, 0, none⟩) n cap) n xs)
    (u : Value) (m : Nat) (news : List Value) (hx : a.eval x = u) (hsrc : Src P size tx u m news w)
    (h63 : n + m ≤ maxLen) (hbytes : (n + m) * bytes ≤ 140737488355328) (hbase : base ≤ w.heap.size)
    (h : ∀ g' c' w', w'.ownsRow base e size (.slice (some ⟨g', 0, none⟩) (n + m) c') (n + m) (xs ++ news) → w.grownBy w' (some g) → (g' = g ∨ g' = w.heap.size) → wpList P ops Q rest (a.put o.dst (.slice (some ⟨g', 0, none⟩) (n + m) c')) w') : wpList P ops Q (o :: rest) a w := by
  refine wpList_plain hgd fun K hK => ?_
  obtain ⟨g', c', w', hr, h2, h3, h4⟩ := run_append_loc (P := P) w base t tx o.type e i z size bytes ht hi hz hsize hby hzs hsz g n cap xs hown u m news hsrc h63 hbytes hbase
  unfold Oper.wp execOp
  simp only [ho, resolve, invoke, builtin, Sem.run_bind, Sem.run_pure, Result.andThen_ok, List.map_toArray, List.map_cons, List.map_nil, hs, hx, hr]
  exact hK _ _ (h g' c' w' h2 h3 h4)

theorem step_append_loc {P : Program} {ops : Array Oper} {o : Oper} {a : Act} {w : World} {K : Act → World → Prop} {Q : Exit → Act → World → Prop} {E : Prop} (hgd : o.guard = none) (s x : Operand) (t tx : TypeId)
    (ho : o.op = .call { callee := .builtin .append, args := #[s, x], argTypes := #[t, tx] })
    (base : Nat) (e : TypeId) (i : TypeInfo) (z : Value) (size bytes : Nat) (ht : P.underlying t = some (.slice e)) (hi : P.info? e = some i) (hz : i.zero = some z)
    (hsize : i.size = size) (hby : i.bytes = bytes) (hzs : z.cells.size = size) (hsz : 0 < size)
    (g n cap : Nat) (xs : List Value) (hs : a.eval s = .slice (some ⟨g, 0, none⟩) n cap) (hown : w.ownsRow base e size (.slice (some ⟨g, 0, none⟩) n cap) n xs)
    (u : Value) (m : Nat) (news : List Value) (hx : a.eval x = u) (hsrc : Src P size tx u m news w)
    (h63 : n + m ≤ maxLen) (hbytes : (n + m) * bytes ≤ 140737488355328) (hbase : base ≤ w.heap.size)
    (h : ∀ g' c' w', w'.ownsRow base e size (.slice (some ⟨g', 0, none⟩) (n + m) c') (n + m) (xs ++ news) → w.grownBy w' (some g) → (g' = g ∨ g' = w.heap.size) → K (a.put o.dst (.slice (some ⟨g', 0, none⟩) (n + m) c')) w') :
    if Region.wanted o (yielded ops a.tmps) = true then Oper.wp P o a w K Q else E := by
  have hw : Region.wanted o (yielded ops a.tmps) = true := by simp [Region.wanted, hgd]
  rw [if_pos hw]
  obtain ⟨g', c', w', hr, h2, h3, h4⟩ := run_append_loc (P := P) w base t tx o.type e i z size bytes ht hi hz hsize hby hzs hsz g n cap xs hown u m news hsrc h63 hbytes hbase
  unfold Oper.wp execOp
  simp only [ho, resolve, invoke, builtin, Sem.run_bind, Sem.run_pure, Result.andThen_ok, List.map_toArray, List.map_cons, List.map_nil, hs, hx, hr]
  exact h g' c' w' h2 h3 h4

end Go.Proofs.YtogopmngbjkcjavGreatDoor
