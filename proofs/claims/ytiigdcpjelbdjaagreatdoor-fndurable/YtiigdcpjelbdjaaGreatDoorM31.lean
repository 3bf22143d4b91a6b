/- What the program's fold makes of a record that begins an upload. What the program's fitsUp answers. What the program's fold makes of a record of data. -/
import Derived.Test.YtiigdcpjelbdjaaGreatDoorM27
import Derived.Test.YtiigdcpjelbdjaaGreatDoorM30
import Derived.Test.YtiigdcpjelbdjaaGreatDoorM12
import Derived.Test.YtiigdcpjelbdjaaGreatDoorM22
import Derived.Test.YtiigdcpjelbdjaaGreatDoorM04
import Derived.Deep.CutBlock
import Derived.Test.YtiigdcpjelbdjaaGreatDoorM06
import Derived.Test.YtiigdcpjelbdjaaGreatDoorM20
import Derived.Test.YtiigdcpjelbdjaaGreatDoorM10
import Derived.Test.YtiigdcpjelbdjaaGreatDoorM24
namespace Go.Proofs.YtiigdcpjelbdjaaGreatDoor
open Go.RowKit
set_option linter.unusedVariables false

/-- What is behind a record: the uploads that it makes, or it gave up. -/
def FoldAns (w : World) (base fb : Nat) (o : Option (List U)) (e : Ending) (w' : World) : Prop :=
  ((o = none ∧ Pan e) ∨ ∃ a n c l, e = .returned (.tuple #[]) ∧ o = some (l.map UE.u) ∧ n = l.length ∧ BoxN w' fb 93 [.slice a n c] ∧ UpRow w' base (.slice a n c) l) ∧ Below base w w'

set_option maxRecDepth 10000 in
set_option maxHeartbeats 800000 in
theorem begin_no (fb base : Nat) (a : Option Addr) (n c : Nat) (l : List UE) (e q k : Int) (id : ByteArray) (rn : Int) (ra : Option Addr) (d ca : Nat) (w : World) (hf : BoxN w fb 93 [.slice a n c]) (h : UpRow w base (.slice a n c) l) (hn : n = l.length) (hl : n ≤ 1099511627776) (he : ErrN w) (hno : ¬ (atU (l.map UE.u) id = none ∧ n < 10)) :
    Calls Tryz.prog 77 #[.pointer (some ⟨fb, 0, none⟩), .agg #[.int .i64 e, .int .i64 q, .int .i64 k, .string id, .int .i64 rn, .slice ra d ca]] w fun e w' => Pan e ∧ Below w.heap.size w w' := by
  obtain ⟨w0, hw0⟩ : ∃ w0, w.alloc (.cells #[.int .i64 e, .int .i64 q, .int .i64 k, .string id, .int .i64 rn, .slice ra d ca] 54) = w0 := ⟨_, rfl⟩
  have HE : Hid (w.alloc (.cells #[.int .i64 e, .int .i64 q, .int .i64 k, .string id, .int .i64 rn, .slice ra d ca] 54) = w0) := hw0
  have HQ : Hid (BoxN w0 w.heap.size 54 [.int .i64 e, .int .i64 q, .int .i64 k, .string id, .int .i64 rn, .slice ra d ca]) := by show BoxN _ _ _ _; rw [← hw0]; exact BoxN.new _ _ _
  have HB : Hid (Below w.heap.size w w0) := by show Below _ _ _; rw [← hw0]; exact (Below.refl _ _).alloc (Nat.le_refl _) _
  have HX : Hid (∀ W, Below w0.heap.size w0 W → BoxN W fb 93 [.slice a n c] ∧ UpRow W base (.slice a n c) l ∧ ErrN W ∧ Below w.heap.size w W ∧ BoxN W w.heap.size 54 [.int .i64 e, .int .i64 q, .int .i64 k, .string id, .int .i64 rn, .slice ra d ca]) := fun W hb => ⟨(hf.stays HB.out).stays hb, (h.stays HB.out).stays hb, (he.below HB.out).below hb, HB.out.trans (hb.mono HB.out.size), HQ.out.stays hb⟩
  have HN : Hid (n = l.length) := hn
  have hfl : fb < w0.heap.size := (HX.out w0 (Below.refl _ _)).1.lt
  have hrl : w.heap.size < w0.heap.size := HQ.out.lt
  have f0 : ∀ P : Past w0, P.world.cell? ⟨fb, 0, none⟩ = some (.slice a n c) := fun P => (HX.out _ P.below).1.cell 0 rfl
  have r3 : ∀ P : Past w0, P.world.cell? ⟨w.heap.size, 3, none⟩ = some (.string id) := fun P => (HX.out _ P.below).2.2.2.2.cell 3 rfl
  have hne := past_some w0
  have HRe : Hid (∀ P : Past w0, Calls Tryz.prog 53 #[.slice a n c, .string id] P.world fun e w' => e = .returned (.pointer (reachUO a (atU (l.map UE.u) id))) ∧ Below P.world.heap.size P.world w') := fun P => implReachU_any a n c base id l P.world (HX.out _ P.below).2.1 HN.out hl
  clear hw0 hf h hn he HQ HB
  cases hk : atU (l.map UE.u) id with
  | none =>
    rw [hk, reachUO_none] at HRe
    have hn10 : ¬ n < 10 := fun h => hno ⟨hk, h⟩
    have d1 : decide ((n : Int) < 10) = false := by simp; omega
    clear hk hno
    go_enter Tryz.func77, Tryz.ntmps77
    go_upto_region 1 with fail
    rw [HE.out]
    clear HE
    refine wp_region_past_tail 16 (by kernel_rfl) (by kernel_rfl) (fun ops HO => ?_)
    simp only [List.take_succ_cons, List.take_zero, List.drop_succ_cons, List.drop_zero]
    iterate 9 (quiet_step ((first | (go_at_call 53; with_reducible exact calls_past (HRe.out _)) | fail)))
    iterate 6 (refine quiet_do (by rw [HO.out]; kernel_rfl) (fun K hK => ?_); go_simp; (refine hK _ ?_; clear hK K))
    iterate 1 (quiet_step ((first | (go_at_call 53; with_reducible exact calls_past (HRe.out _)) | fail)))
    refine wpQuiet_nil ?_
    rintro _ ⟨z, rfl⟩
    go_wp2_with fail
    refine (mustFit_no _ (HX.out _ z.below).2.2.1).mono ?_
    rintro _ x2 ⟨⟨t, v, rfl⟩, rfl⟩
    go_wp2_with fail
    exact ⟨rfl, ⟨t, v, rfl⟩, (HX.out _ z.below).2.2.2.1⟩
  | some kk =>
    obtain ⟨g, hg⟩ : ∃ g, a = some ⟨g, 0, none⟩ := by
      obtain ⟨g, hg, _⟩ := (HX.out w0 (Below.refl _ _)).2.1.at HN.out (by simpa using (atU_is hk).1)
      exact ⟨g, hg⟩
    subst hg
    rw [hk] at HRe
    have HRe2 : Hid (∀ P : Past w0, Calls Tryz.prog 53 #[.slice (some ⟨g, 0, none⟩) n c, .string id] P.world fun e w' => e = .returned (.pointer (some ⟨g, kk * 4, none⟩)) ∧ Below P.world.heap.size P.world w') := HRe.out
    clear hk hno HRe
    go_enter Tryz.func77, Tryz.ntmps77
    go_upto_region 1 with fail
    rw [HE.out]
    clear HE
    refine wp_region_past_tail 16 (by kernel_rfl) (by kernel_rfl) (fun ops HO => ?_)
    simp only [List.take_succ_cons, List.take_zero, List.drop_succ_cons, List.drop_zero]
    iterate 9 (quiet_step ((first | (go_at_call 53; with_reducible exact calls_past (HRe2.out _)) | fail)))
    iterate 6 (refine quiet_past (by rw [HO.out]; kernel_rfl) ?_)
    iterate 1 (quiet_step ((first | (go_at_call 53; with_reducible exact calls_past (HRe.out _)) | fail)))
    refine wpQuiet_nil ?_
    rintro _ ⟨z, rfl⟩
    go_wp2_with fail
    refine (mustFit_no _ (HX.out _ z.below).2.2.1).mono ?_
    rintro _ x2 ⟨⟨t, v, rfl⟩, rfl⟩
    go_wp2_with fail
    exact ⟨rfl, ⟨t, v, rfl⟩, (HX.out _ z.below).2.2.2.1⟩

set_option maxRecDepth 10000 in
set_option maxHeartbeats 1600000 in
theorem begin_yes (fb base : Nat) (a : Option Addr) (n c : Nat) (l : List UE) (e q k : Int) (id : ByteArray) (rn : Int) (ra : Option Addr) (d ca : Nat) (w : World) (hf : BoxN w fb 93 [.slice a n c]) (h : UpRow w base (.slice a n c) l) (hn : n = l.length) (hl : n ≤ 1099511627776) (he : ErrN w) (hbase : base ≤ w.heap.size) (hfb : base ≤ fb) (hno : atU (l.map UE.u) id = none ∧ n < 10) :
    Calls Tryz.prog 77 #[.pointer (some ⟨fb, 0, none⟩), .agg #[.int .i64 e, .int .i64 q, .int .i64 k, .string id, .int .i64 rn, .slice ra d ca]] w fun e w' => (∃ a' c', e = .returned (.tuple #[]) ∧ BoxN w' fb 93 [.slice a' (n + 1) c'] ∧ UpRow w' base (.slice a' (n + 1) c') (l.take (lessU (l.map UE.u) id) ++ [⟨⟨id, rn, [], false⟩, none, 0, 0⟩] ++ l.drop (lessU (l.map UE.u) id))) ∧ Below base w w' := by
  obtain ⟨w0, hw0⟩ : ∃ w0, w.alloc (.cells #[.int .i64 e, .int .i64 q, .int .i64 k, .string id, .int .i64 rn, .slice ra d ca] 54) = w0 := ⟨_, rfl⟩
  have HE : Hid (w.alloc (.cells #[.int .i64 e, .int .i64 q, .int .i64 k, .string id, .int .i64 rn, .slice ra d ca] 54) = w0) := hw0
  have HQ : Hid (BoxN w0 w.heap.size 54 [.int .i64 e, .int .i64 q, .int .i64 k, .string id, .int .i64 rn, .slice ra d ca]) := by show BoxN _ _ _ _; rw [← hw0]; exact BoxN.new _ _ _
  have HB : Hid (Below w.heap.size w w0) := by show Below _ _ _; rw [← hw0]; exact (Below.refl _ _).alloc (Nat.le_refl _) _
  have HX : Hid (∀ W, Below w0.heap.size w0 W → BoxN W fb 93 [.slice a n c] ∧ UpRow W base (.slice a n c) l ∧ ErrN W ∧ Below w.heap.size w W ∧ BoxN W w.heap.size 54 [.int .i64 e, .int .i64 q, .int .i64 k, .string id, .int .i64 rn, .slice ra d ca]) := fun W hb => ⟨(hf.stays HB.out).stays hb, (h.stays HB.out).stays hb, (he.below HB.out).below hb, HB.out.trans (hb.mono HB.out.size), HQ.out.stays hb⟩
  have HN : Hid (n = l.length) := hn
  have hfl : fb < w0.heap.size := (HX.out w0 (Below.refl _ _)).1.lt
  have hrl : w.heap.size < w0.heap.size := HQ.out.lt
  have f0 : ∀ P : Past w0, P.world.cell? ⟨fb, 0, none⟩ = some (.slice a n c) := fun P => (HX.out _ P.below).1.cell 0 rfl
  have r3 : ∀ P : Past w0, P.world.cell? ⟨w.heap.size, 3, none⟩ = some (.string id) := fun P => (HX.out _ P.below).2.2.2.2.cell 3 rfl
  have hne := past_some w0
  have HRe : Hid (∀ P : Past w0, Calls Tryz.prog 53 #[.slice a n c, .string id] P.world fun e w' => e = .returned (.pointer (reachUO a (atU (l.map UE.u) id))) ∧ Below P.world.heap.size P.world w') := fun P => implReachU_any a n c base id l P.world (HX.out _ P.below).2.1 HN.out hl
  clear hw0 hf h hn he HQ HB
  have r4 : ∀ P : Past w0, P.world.cell? ⟨w.heap.size, 4, none⟩ = some (.int .i64 rn) := fun P => (HX.out _ P.below).2.2.2.2.cell 4 rfl
  rw [hno.1, reachUO_none] at HRe
  have d1 : decide ((n : Int) < 10) = true := by simp; omega
  have HMf : Hid (∀ P : Past w0, Calls Tryz.prog 81 #[.bool true] P.world fun e w' => e = .returned (.tuple #[]) ∧ Below P.world.heap.size P.world w') := fun P => (mustFit_yes _).mono (fun e w' h => ⟨h.1, by rw [h.2]; exact Below.refl _ _⟩)
  have hn10 : n ≤ 1048576 := by omega
  clear hno
  go_enter Tryz.func77, Tryz.ntmps77
  go_upto_region 1 with fail
  rw [HE.out]
  clear HE
  refine wp_region_pastO (by kernel_rfl) (by kernel_rfl) fun ops HO => ?_
  iterate 9 (quiet_step ((first | (go_at_call 53; with_reducible exact calls_past (HRe.out _)) | (go_at_call 81; with_reducible exact calls_past (HMf.out _)) | fail)))
  iterate 6 (refine quiet_do (by rw [HO.out]; kernel_rfl) (fun K hK => ?_); go_simp; (refine hK _ ?_; clear hK K))
  iterate 2 (quiet_step ((first | (go_at_call 53; with_reducible exact calls_past (HRe.out _)) | (go_at_call 81; with_reducible exact calls_past (HMf.out _)) | fail)))
  refine wpQuiet_nil ?_
  rintro _ ⟨z, rfl⟩
  have HBz : Hid (Below w0.heap.size w0 z.world) := z.below
  obtain ⟨W, hW⟩ : ∃ W, z.world = W := ⟨_, rfl⟩
  rw [hW] at HBz ⊢
  clear hW z ops HO f0 r3 r4 hne HRe HMf
  go_upto_region 2 with fail
  have f0 : ∀ P : Past W, P.world.cell? ⟨fb, 0, none⟩ = some (.slice a n c) := fun P => (HX.out _ (HBz.out.trans (P.below.mono HBz.out.size))).1.cell 0 rfl
  have r3 : ∀ P : Past W, P.world.cell? ⟨w.heap.size, 3, none⟩ = some (.string id) := fun P => (HX.out _ (HBz.out.trans (P.below.mono HBz.out.size))).2.2.2.2.cell 3 rfl
  have r4 : ∀ P : Past W, P.world.cell? ⟨w.heap.size, 4, none⟩ = some (.int .i64 rn) := fun P => (HX.out _ (HBz.out.trans (P.below.mono HBz.out.size))).2.2.2.2.cell 4 rfl
  have hne := past_some W
  refine wp_region_past_tail1 10 (by kernel_rfl) (by kernel_rfl) (by kernel_rfl) (by kernel_rfl) rfl rfl _ rfl (fun ops HO => ?_)
  simp only [List.take_succ_cons, List.take_zero, List.drop_succ_cons, List.drop_zero]
  iterate 9 (quiet_step ((first | fail)))
  refine wpQuiet_nil ?_
  rintro _ ⟨z, rfl⟩
  have HB2 : Hid (Below w0.heap.size w0 z.world) := HBz.out.trans (z.below.mono HBz.out.size)
  obtain ⟨W2, hW2⟩ : ∃ W2, z.world = W2 := ⟨_, rfl⟩
  rw [hW2] at HB2 ⊢
  clear hW2 z HBz f0 r3 r4 hne
  have hx := HX.out _ HB2.out
  have HOw : Hid (OwnU W2 base a n c l) := by
    have h := hx.2.1.1
    rw [← HN.out] at h
    exact h
  have HU2 : Hid (UpRow W2 base (.slice a n c) l) := hx.2.1
  have HF2 : Hid (BoxN W2 fb 93 [.slice a n c]) := hx.1
  have HBw : Hid (Below w.heap.size w W2) := hx.2.2.2.1
  have HBs : Hid (base ≤ W2.heap.size) := Nat.le_trans hbase hx.2.2.2.1.size
  clear hx
  have hcall := implWithU_any base a n c l ⟨⟨id, rn, [], false⟩, none, 0, 0⟩ W2 HOw.out hn10 HBs.out
  dsimp only at hcall
  have HC : Hid (Calls Tryz.prog 99 #[.slice a n c, .agg #[.string id, .int .i64 rn, .slice none 0 0, .bool false]] W2 fun e w' => ∃ A' C', e = .returned (.slice A' (n + 1) C') ∧ OwnU w' base A' (n + 1) C' (l.take (lessU (l.map UE.u) id) ++ [⟨⟨id, rn, [], false⟩, none, 0, 0⟩] ++ l.drop (lessU (l.map UE.u) id)) ∧ W2.grownBy w' (a.map (·.block))) := hcall
  clear hcall
  go_wp2_with fail
  refine HC.out.mono ?_
  rintro _ W3 ⟨A', C', rfl, ho3, hg3⟩
  have hlen := ho3.len
  have hF3 : BoxN W3 fb 93 [.slice a n c] := HF2.out.grown hg3 (fun e => HF2.out.noRow HU2.out.1 (by decide) (by rw [ownBlock_sU]; exact e))
  have hg3' : W2.grownBy W3 (Value.slice a n c).ownBlock := by rw [ownBlock_sU]; exact hg3
  have hU3 : UpRow W3 base (.slice A' (n + 1) C') (l.take (lessU (l.map UE.u) id) ++ [⟨⟨id, rn, [], false⟩, none, 0, 0⟩] ++ l.drop (lessU (l.map UE.u) id)) := by
    refine HU2.out.remade ?_ hg3' ?_ (upair_ins _ HU2.out.2.2 rfl)
    · rw [hlen]; exact ho3
    · intro x hx
      rcases List.mem_append.1 hx with hx | hx
      · rcases List.mem_append.1 hx with hx | hx
        · exact .inl (List.mem_of_mem_take hx)
        · obtain rfl : x = ⟨⟨id, rn, [], false⟩, none, 0, 0⟩ := by simpa using hx
          exact .inr ⟨rfl, rfl, rfl, rfl⟩
      · exact .inl (List.mem_of_mem_drop hx)
  have f3 := hF3.cell 0 rfl
  have z3 := hF3.frozen 0
  have HR : Hid (BoxN (W3.setCell ⟨fb, 0, none⟩ (.slice A' (n + 1) C')) fb 93 [.slice A' (n + 1) C'] ∧ UpRow (W3.setCell ⟨fb, 0, none⟩ (.slice A' (n + 1) C')) base (.slice A' (n + 1) C') (l.take (lessU (l.map UE.u) id) ++ [⟨⟨id, rn, [], false⟩, none, 0, 0⟩] ++ l.drop (lessU (l.map UE.u) id)) ∧ Below base w (W3.setCell ⟨fb, 0, none⟩ (.slice A' (n + 1) C'))) := by
    refine ⟨hF3.set 0 _, hU3.setBox hF3 (by decide) (by decide), ?_⟩
    have h1 : Below base w W2 := HBw.out.mono hbase
    have h2 := h1.grown hg3' HBs.out (fun q hq => (HU2.out.lts.1 q hq).1)
    exact h2.setCell (by dsimp only; omega) _
  clear ho3 hg3 hg3' hlen hF3 hU3
  go_wp2_with fail
  go_end0
  exact ⟨⟨A', C', rfl, HR.out.1, HR.out.2.1⟩, HR.out.2.2⟩

end Go.Proofs.YtiigdcpjelbdjaaGreatDoor

namespace Go.Proofs.YtiigdcpjelbdjaaGreatDoor
open Go.RowKit
set_option linter.unusedVariables false

/-- Whether so many bytes may stand from off on. -/
def fitB (u : U) (off : Int) (d : Nat) : Bool := !u.done && decide (off = (u.zs.length : Int)) && decide ((d : Int) ≤ u.want - off)

/-- What is there is no more than is wanted; what is wanted is a number of the machine's. -/
def UFit (u : U) : Prop := (-9223372036854775808 ≤ u.want ∧ u.want ≤ 9223372036854775807) ∧ ((u.zs.length : Int) ≤ u.want ∨ u.zs = [])

set_option maxRecDepth 10000 in
set_option maxHeartbeats 800000 in
theorem implFits_any (g o : Nat) (u : U) (a : Option Addr) (n c : Nat) (off : Int) (da : Option Addr) (d dc : Nat) (w : World) (h1 : w.cell? ⟨g, o + 1, none⟩ = some (.int .i64 u.want)) (h2 : w.cell? ⟨g, o + 2, none⟩ = some (.slice a n c)) (h3 : w.cell? ⟨g, o + 3, none⟩ = some (.bool u.done)) (hn : u.zs.length = n) (hf : UFit u) (hl : n ≤ 1099511627776) (hd : d ≤ 1099511627776) :
    Calls Tryz.prog 44 #[.pointer (some ⟨g, o, none⟩), .int .i64 off, .slice da d dc] w fun e w' => e = .returned (.bool (fitB u off d)) ∧ w' = w := by
  cases hdn : u.done with
  | true =>
    rw [hdn] at h3
    have HF : Hid (fitB u off d = false) := by show _ = _; rw [fitB, hdn]; rfl
    clear hdn hn hf
    go_enter Tryz.func44, Tryz.ntmps44
    go_wp2_with fail
    go_ret
    exact ⟨by rw [HF.out]; rfl, rfl⟩
  | false =>
    rw [hdn] at h3
    by_cases ho : off = (n : Int)
    case neg =>
      have HF : Hid (fitB u off d = false) := by show _ = _; rw [fitB, decide_eq_false (by omega)]; simp
      have e1 : (off == (n : Int)) = false := by simpa using ho
      clear hdn hn hf
      go_enter Tryz.func44, Tryz.ntmps44
      go_wp2_with fail
      go_ret
      exact ⟨by rw [HF.out]; rfl, rfl⟩
    have hw : IntKind.i64.wrap (u.want - off) = u.want - off := by
      obtain ⟨⟨w1, w2⟩, w3⟩ := hf
      have hz : u.zs = [] → n = 0 := fun h => by rw [← hn, h]; rfl
      rw [IntKind.wrap_i64]
      rcases w3 with w3 | w3
      · omega
      · have := hz w3; omega
    have HF : Hid (fitB u off d = decide ((d : Int) ≤ u.want - off)) := by show _ = _; rw [fitB, hdn, decide_eq_true (by omega)]; simp
    have e1 : (off == (n : Int)) = true := by simpa using ho
    subst ho
    clear hdn hn hf
    obtain ⟨t, ht⟩ : ∃ t, u.want - (n : Int) = t := ⟨_, rfl⟩
    rw [ht] at HF hw
    have hw2 : IntKind.i64.wrap (u.want - (n : Int)) = t := by rw [ht]; exact hw
    go_enter Tryz.func44, Tryz.ntmps44
    go_wp2_with fail
    go_ret
    exact ⟨by rw [HF.out]; rfl, rfl⟩

end Go.Proofs.YtiigdcpjelbdjaaGreatDoor

namespace Go.Proofs.YtiigdcpjelbdjaaGreatDoor
open Go.RowKit
set_option linter.unusedVariables false

theorem map_put {l : List UE} {k : Nat} (hk : k < l.length) (x : UE) : (l.take k ++ x :: l.drop (k + 1)).map UE.u = (l.map UE.u).set k x.u := by
  have e : l = l.take k ++ l[k] :: l.drop (k + 1) := by rw [← List.drop_eq_getElem_cons hk, List.take_append_drop]
  have hl : ((l.take k).map UE.u).length = k := by rw [List.length_map, List.length_take]; omega
  conv => rhs; rw [e]
  rw [List.map_append, List.map_append, List.map_cons, List.map_cons]
  rw [List.set_append_right _ _ (by omega), hl, Nat.sub_self, List.set_cons_zero]

/-- What a record of data makes, said as the program goes. -/
def growO (l : List U) (id : ByteArray) (rn : Int) (ys : List Int) : Option (List U) := match atU l id with
  | none => none
  | some k => match l[k]? with
    | none => none
    | some u => if fitB u rn ys.length then some (l.set k { u with zs := u.zs ++ ys }) else none

theorem growO_at {l : List U} {id : ByteArray} {rn : Int} {ys : List Int} {k : Nat} {u : U} (h : atU l id = some k) (hu : l[k]? = some u) : growO l id rn ys = if fitB u rn ys.length then some (l.set k { u with zs := u.zs ++ ys }) else none := by
  simp only [growO, h, hu]

set_option maxRecDepth 10000 in
set_option maxHeartbeats 1600000 in
theorem implGrow_any (fb base : Nat) (a : Option Addr) (n c : Nat) (l : List UE) (e q k : Int) (id : ByteArray) (rn : Int) (ra : Option Addr) (d ca : Nat) (w : World) (hf : BoxN w fb 93 [.slice a n c]) (h : UpRow w base (.slice a n c) l) (hn : n = l.length) (hl : n ≤ 1099511627776) (he : ErrN w) (hbase : base ≤ w.heap.size) (hfb : base ≤ fb) (ys : List Int) (hs : Seg w ra d ys) (hd : d ≤ 1099511627776) (hfit : ∀ x ∈ l, UFit x.u) (hzl : ∀ x ∈ l, x.n ≤ 1099511627776) :
    Calls Tryz.prog 78 #[.pointer (some ⟨fb, 0, none⟩), .agg #[.int .i64 e, .int .i64 q, .int .i64 k, .string id, .int .i64 rn, .slice ra d ca]] w fun e w' => FoldAns w base fb (growO (l.map UE.u) id rn ys) e w' := by
  obtain ⟨w0, hw0⟩ : ∃ w0, w.alloc (.cells #[.int .i64 e, .int .i64 q, .int .i64 k, .string id, .int .i64 rn, .slice ra d ca] 54) = w0 := ⟨_, rfl⟩
  have HE : Hid (w.alloc (.cells #[.int .i64 e, .int .i64 q, .int .i64 k, .string id, .int .i64 rn, .slice ra d ca] 54) = w0) := hw0
  have HQ : Hid (BoxN w0 w.heap.size 54 [.int .i64 e, .int .i64 q, .int .i64 k, .string id, .int .i64 rn, .slice ra d ca]) := by show BoxN _ _ _ _; rw [← hw0]; exact BoxN.new _ _ _
  have HB : Hid (Below w.heap.size w w0) := by show Below _ _ _; rw [← hw0]; exact (Below.refl _ _).alloc (Nat.le_refl _) _
  have HX : Hid (∀ W, Below w0.heap.size w0 W → BoxN W fb 93 [.slice a n c] ∧ UpRow W base (.slice a n c) l ∧ ErrN W ∧ Below w.heap.size w W ∧ BoxN W w.heap.size 54 [.int .i64 e, .int .i64 q, .int .i64 k, .string id, .int .i64 rn, .slice ra d ca]) := fun W hb => ⟨(hf.stays HB.out).stays hb, (h.stays HB.out).stays hb, (he.below HB.out).below hb, HB.out.trans (hb.mono HB.out.size), HQ.out.stays hb⟩
  have HN : Hid (n = l.length) := hn
  have HSg : Hid (∀ W, Below w0.heap.size w0 W → Seg W ra d ys) := fun W hb => (hs.below HB.out).below hb
  have r3 := (HX.out w0 (Below.refl _ _)).2.2.2.2.cell 3 rfl
  have HT : Hid (Calls Tryz.prog 100 #[.pointer (some ⟨fb, 0, none⟩), .string id] w0 fun e w' => ThereAns (atU (l.map UE.u) id) a e ∧ Below w0.heap.size w0 w') := implThere_any fb a n c base id l w0 (HX.out w0 (Below.refl _ _)).1 (HX.out w0 (Below.refl _ _)).2.1 HN.out hl (HX.out w0 (Below.refl _ _)).2.2.1
  clear hw0 hf h hn he HQ HB hs
  go_enter Tryz.func78, Tryz.ntmps78
  go_upto_region 1 with fail
  rw [HE.out]
  clear HE
  go_wp2_with fail
  refine HT.out.mono ?_
  rintro ee w1 ⟨hth, hb1⟩
  have HB1 : Hid (Below w0.heap.size w0 w1) := hb1
  clear hb1 HT r3
  rcases hth with ⟨kk, g, hk, rfl, rfl⟩ | ⟨hk, t, v, rfl⟩
  case inr =>
    have HF : Hid (growO (l.map UE.u) id rn ys = none) := by show _ = _; rw [growO, hk]
    clear hk
    go_wp2_with fail
    exact ⟨rfl, .inl ⟨HF.out, t, v, rfl⟩, (HX.out _ HB1.out).2.2.2.1.mono hbase⟩
  have hkl : kk < l.length := by simpa using (atU_is hk).1
  obtain ⟨_, hg', c0, c1, c2, c3, hfz⟩ := (HX.out _ HB1.out).2.1.at HN.out hkl
  injection hg' with hg'
  injection hg' with hg'
  subst hg'
  have HFi : Hid (UFit (l[kk]).u) := hfit _ (List.getElem_mem hkl)
  have HZk : Hid ((l[kk]).n ≤ 1099511627776) := hzl _ (List.getElem_mem hkl)
  have HOd : Hid (∀ W, Below w0.heap.size w0 W → Owns W base (l[kk]).a (l[kk]).n (l[kk]).c (l[kk]).u.zs) := fun W hb => (HX.out W hb).2.1.2.1 _ (List.getElem_mem hkl)
  have HG : Hid (growO (l.map UE.u) id rn ys = if fitB (l[kk]).u rn ys.length then some ((l.map UE.u).set kk { (l[kk]).u with zs := (l[kk]).u.zs ++ ys }) else none) := growO_at hk (by rw [List.getElem?_map, List.getElem?_eq_getElem hkl]; rfl)
  have HDl : Hid (ys.length = d) := (HSg.out _ HB1.out).1
  have r4 := (HX.out _ HB1.out).2.2.2.2.cell 4 rfl
  have r5 := (HX.out _ HB1.out).2.2.2.2.cell 5 rfl
  have HCf : Hid (Calls Tryz.prog 44 #[.pointer (some ⟨g, kk * 4, none⟩), .int .i64 rn, .slice ra d ca] w1 fun e w' => e = .returned (.bool (fitB (l[kk]).u rn d)) ∧ w' = w1) := implFits_any g (kk * 4) (l[kk]).u (l[kk]).a (l[kk]).n (l[kk]).c rn ra d ca w1 c1 c2 c3 (HOd.out _ HB1.out).seg.1 HFi.out HZk.out hd
  clear hk hfit hzl c0 c1 c2 c3 hfz
  go_wp2_with fail
  refine HCf.out.mono ?_
  rintro _ w1 ⟨rfl, rfl⟩
  clear HCf
  cases hfi : fitB (l[kk]).u rn d with
  | false =>
    have HF : Hid (growO (l.map UE.u) id rn ys = none) := by show _ = _; rw [HG.out, HDl.out, hfi]; rfl
    clear hfi HG
    go_wp2_with fail
    refine (mustFit_no _ (HX.out _ HB1.out).2.2.1).mono ?_
    rintro _ x2 ⟨⟨t, v, rfl⟩, rfl⟩
    go_wp2_with fail
    exact ⟨rfl, .inl ⟨HF.out, t, v, rfl⟩, (HX.out _ HB1.out).2.2.2.1.mono hbase⟩
  | true =>
    have HF : Hid (growO (l.map UE.u) id rn ys = some ((l.map UE.u).set kk { (l[kk]).u with zs := (l[kk]).u.zs ++ ys })) := by show _ = _; rw [HG.out, HDl.out, hfi]; rfl
    clear hfi HG
    go_wp2_with fail
    refine (mustFit_yes _).mono ?_
    rintro _ w1 ⟨rfl, rfl⟩
    clear r4 r5
    go_upto_region 3 with fail
    have y2 : ∀ P : Past w1, P.world.cell? ⟨g, kk * 4 + 2, none⟩ = some (.slice (l[kk]).a (l[kk]).n (l[kk]).c) := fun P => by
      obtain ⟨_, hg', _, _, c2, _, _⟩ := (HX.out _ (HB1.out.trans (P.below.mono HB1.out.size))).2.1.at HN.out hkl
      injection hg' with hg'
      injection hg' with hg'
      subst hg'
      exact c2
    have y5 : ∀ P : Past w1, P.world.cell? ⟨w.heap.size, 5, none⟩ = some (.slice ra d ca) := fun P => (HX.out _ (HB1.out.trans (P.below.mono HB1.out.size))).2.2.2.2.cell 5 rfl
    have hne := past_some w1
    refine wp_region_past_tail1 7 (by kernel_rfl) (by kernel_rfl) (by kernel_rfl) (by kernel_rfl) rfl rfl _ rfl (fun ops HO => ?_)
    simp only [List.take_succ_cons, List.take_zero, List.drop_succ_cons, List.drop_zero]
    iterate 6 (quiet_step ((first | fail)))
    refine wpQuiet_nil ?_
    rintro _ ⟨z, rfl⟩
    have HB2 : Hid (Below w0.heap.size w0 z.world) := HB1.out.trans (z.below.mono HB1.out.size)
    obtain ⟨W2, hW2⟩ : ∃ W2, z.world = W2 := ⟨_, rfl⟩
    rw [hW2] at HB2 ⊢
    clear hW2 z y2 y5 hne
    have hx := HX.out _ HB2.out
    obtain ⟨A, C, w3, hr, ho3, hg3, hw3⟩ := appB_run W2 base 22 (l[kk]).a (l[kk]).n (l[kk]).c (l[kk]).u.zs (HOd.out _ HB2.out) (.slice ra d ca) d ys ((HSg.out _ HB2.out).src) (HSg.out _ HB2.out).2.1 (by have := HZk.out; omega) (Nat.le_trans hbase hx.2.2.2.1.size)
    have hrow := hx.2.1
    have hsp : l = l.take kk ++ l[kk] :: l.drop (kk + 1) := by rw [← List.drop_eq_getElem_cons hkl, List.take_append_drop]
    have htl : (l.take kk).length = kk := by rw [List.length_take]; omega
    have hrow2 : UpRow W2 base (.slice (some ⟨g, 0, none⟩) n c) (l.take kk ++ l[kk] :: l.drop (kk + 1)) := by rw [← hsp]; exact hrow
    have hgw : g < W2.heap.size := (hrow.lts.1 g rfl).2
    have hga : (l[kk]).a.map (·.block) ≠ some g := hrow.rowApart (HOd.out _ HB2.out) g rfl
    obtain ⟨_, hg', _, _, c2, _, hfz⟩ := hrow.at HN.out hkl
    injection hg' with hg'
    injection hg' with hg'
    subst hg'
    have s2 : w3.cell? ⟨g, kk * 4 + 2, none⟩ = some (.slice (l[kk]).a (l[kk]).n (l[kk]).c) := by rw [grown_cell hg3 hgw (fun h => hga h.symm)]; exact c2
    have sf : w3.frozen? ⟨g, kk * 4 + 2, none⟩ = false := by rw [grown_frozen hg3 hgw (fun h => hga h.symm)]; exact hfz _
    have hU3 := hrow2.grew (by rw [← hsp]; exact HN.out.symm) ho3 hg3 hw3
    rw [htl] at hU3
    have hF3 : BoxN w3 fb 93 [.slice (some ⟨g, 0, none⟩) n c] := hx.1.grown hg3 (fun e => hx.1.noRow (HOd.out _ HB2.out).1 (by decide) (by rw [ownBlock_sU]; exact e))
    have hfg : fb ≠ g := fun e => hx.1.noRow hrow.1 (by decide) (by rw [e]; rfl)
    have HR : Hid (FoldAns w base fb (growO (l.map UE.u) id rn ys) (.returned (.tuple #[])) (w3.setCell ⟨g, kk * 4 + 2, none⟩ (.slice A ((l[kk]).n + d) C))) := by
      refine ⟨.inr ⟨_, n, c, _, rfl, ?_, ?_, hF3.other hfg _, hU3⟩, ?_⟩
      · rw [HF.out, map_put hkl]
      · rw [HN.out, List.length_append, List.length_cons, htl, List.length_drop]; omega
      · have h1 : Below base w W2 := hx.2.2.2.1.mono hbase
        have h2 := h1.grown hg3 (Nat.le_trans hbase hx.2.2.2.1.size) (fun q hq => ((HOd.out _ HB2.out).lt q hq).1)
        exact h2.setCell (by dsimp only; exact (hrow.lts.1 g rfl).1) _
    clear hx ho3 hg3 hw3 hrow hsp htl hrow2 hU3 hF3 c2 hfz HF
    go_wp2_with (at_builtin; refine Lib.wpList_append_run _ rfl _ _ _ _ rfl _ _ rfl rfl _ _ hr ?_)
    go_end0
    exact HR.out

end Go.Proofs.YtiigdcpjelbdjaaGreatDoor
