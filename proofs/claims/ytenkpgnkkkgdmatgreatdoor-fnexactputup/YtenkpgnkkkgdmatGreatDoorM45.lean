/- What the specification's l14Write does to a store in a variable. What the specification's l14Left answers. -/
import Derived.Test.YtenkpgnkkkgdmatGreatDoorM28
import Derived.Test.YtenkpgnkkkgdmatGreatDoorM36
import Derived.Test.YtenkpgnkkkgdmatGreatDoorM40
import Derived.Test.YtenkpgnkkkgdmatGreatDoorM15
import Derived.Deep.CutBlock
import Derived.Test.YtenkpgnkkkgdmatGreatDoorM03
import Derived.BigQuiet
namespace Go.Proofs.YtenkpgnkkkgdmatGreatDoor
open Go.RowKit
set_option linter.unusedVariables false

set_option maxRecDepth 10000 in
set_option maxHeartbeats 3200000 in
theorem specWrite_any (lo b : Nat) (a : Option Addr) (ca : Nat) (X : List ByteArray) (a' : Option Addr) (n' ca' : Nat) (Y : List ByteArray) (E M : Nat) (ua : Option Addr) (un uc : Nat) (l : List UE) (e0 q0 : Int) (k : Nat) (id : ByteArray) (rn : Nat) (A : Option Addr) (d C : Nat) (zs : List Int) (us' : List U) (w : World)
    (hq : BoxN w b 32 [.slice a X.length ca, .slice a' n' ca', .int .i64 (E : Int), .int .i64 (M : Int), .slice ua un uc]) (hst : StoAt w lo a X.length ca X a' n' ca' Y ua un uc l) (hlb : lo ≤ b) (ba : Nat) (hsg : Owns w ba A d C zs) (hM : M < X.length) (hXl : X.length ≤ 2097152) (hul : un ≤ 100000) (hz : ∀ e ∈ l, e.n ≤ 1099511627776)
    (hi : id.size ≤ 255) (hd : d ≤ 255) (hE : E ≤ 1000000) (hk : k ≤ 4) (hrn : rn ≤ 1000000000) (ho : oneU (l.map UE.u) ⟨E, M, k, id, rn, zs⟩ = some us') :
    Calls Tryz.prog 25 #[.pointer (some ⟨b, 0, none⟩), .agg #[.int .i64 e0, .int .i64 q0, .int .i64 (k : Int), .string id, .int .i64 (rn : Int), .slice A d C]] w fun e w' =>
      e = .returned (.tuple #[]) ∧ (∃ ua' un' uc' l', BoxN w' b 32 [.slice a X.length ca, .slice a' n' ca', .int .i64 (E : Int), .int .i64 ((M : Int) + 1), .slice ua' un' uc'] ∧ StoAt w' lo a X.length ca (X.set M (txU (sumB (recB E M k id rn zs)))) a' n' ca' Y ua' un' uc' l' ∧ l'.map UE.u = us') ∧ Below lo w w' := by
  have hlw : lo ≤ w.heap.size := Nat.le_of_lt (Nat.lt_of_le_of_lt hlb hq.lt)
  have hbw : b < w.heap.size := hq.lt
  have hne : b ≠ w.heap.size := by omega
  obtain ⟨g, rfl⟩ := texts_at hst.now (by omega)
  obtain ⟨w0, hw0⟩ : ∃ w0, w.alloc (.cells #[.int .i64 e0, .int .i64 q0, .int .i64 (k : Int), .string id, .int .i64 (rn : Int), .slice A d C] 56) = w0 := ⟨_, rfl⟩
  have HE0 : Hid (w.alloc (.cells #[.int .i64 e0, .int .i64 q0, .int .i64 (k : Int), .string id, .int .i64 (rn : Int), .slice A d C] 56) = w0) := hw0
  have hb0 : Below w.heap.size w w0 := by rw [← hw0]; exact (Below.refl _ _).alloc (Nat.le_refl _) _
  have hp0 : BoxN w0 w.heap.size 56 [.int .i64 e0, .int .i64 q0, .int .i64 (k : Int), .string id, .int .i64 (rn : Int), .slice A d C] := by rw [← hw0]; exact BoxN.new _ _ _
  have hq0 := hq.stays hb0
  have hs0 := hst.stays hb0
  clear hw0
  obtain ⟨w2, hw2⟩ : ∃ w2, (w0.setCell ⟨w.heap.size, 0, none⟩ (.int .i64 (E : Int))).setCell ⟨w.heap.size, 1, none⟩ (.int .i64 (M : Int)) = w2 := ⟨_, rfl⟩
  have HE2 : Hid ((w0.setCell ⟨w.heap.size, 0, none⟩ (.int .i64 (E : Int))).setCell ⟨w.heap.size, 1, none⟩ (.int .i64 (M : Int)) = w2) := hw2
  have HP2 : Hid (BoxN w2 w.heap.size 56 [.int .i64 (E : Int), .int .i64 (M : Int), .int .i64 (k : Int), .string id, .int .i64 (rn : Int), .slice A d C]) := by show BoxN _ _ _ _; rw [← hw2]; exact (hp0.set 0 _).set 1 _
  have HQ2 : Hid (BoxN w2 b 32 [.slice (some ⟨g, 0, none⟩) X.length ca, .slice a' n' ca', .int .i64 (E : Int), .int .i64 (M : Int), .slice ua un uc]) := by show BoxN _ _ _ _; rw [← hw2]; exact (hq0.other hne _).other hne _
  have HS2 : Hid (StoAt w2 lo (some ⟨g, 0, none⟩) X.length ca X a' n' ca' Y ua un uc l) := by
    show StoAt _ _ _ _ _ _ _ _ _ _ _ _ _ _
    rw [← hw2]
    exact (hs0.setBox (i := 0) hp0 _).setBox (i := 1) (hp0.set 0 _) _
  have HB2 : Hid (Below w.heap.size w w2) := by show Below _ _ _; rw [← hw2]; exact (hb0.setCell (Nat.le_refl _) _).setCell (Nat.le_refl _) _
  have HG2 : Hid (Owns w2 ba A d C zs) := hsg.below HB2.out
  have c2 := hq0.cell 2 rfl
  have c3 := (hq0.other (b' := w.heap.size) (k := 0) hne (.int .i64 (E : Int))).cell 3 rfl
  have p0 := hp0.cell 0 rfl
  have p1 := (hp0.set 0 (.int .i64 (E : Int))).cell 1 rfl
  have z0 := hp0.frozen 0
  have z1 := (hp0.set 0 (.int .i64 (E : Int))).frozen 1
  have HL : Hid (un = l.length ∧ (∀ e ∈ l, e.n ≤ 1099511627776) ∧ oneU (l.map UE.u) ⟨E, M, k, id, rn, zs⟩ = some us') := ⟨hst.len, hz, ho⟩
  clear hq hst hsg hb0 hp0 hq0 hs0 hz ho hw2
  go_enter Tryz.func25, Tryz.ntmps25
  go_upto_region 1 with fail
  rw [HE0.out]
  clear HE0
  go_upto_region 3 with fail
  rw [HE2.out]
  clear HE2 c2 c3 p0 p1 z0 z1
  have hbw2 : b < w2.heap.size := HQ2.out.lt
  have hpw2 : w.heap.size < w2.heap.size := HP2.out.lt
  have HT : Hid (∀ P : Past w2, Calls Tryz.prog 48 #[.agg #[.int .i64 (E : Int), .int .i64 (M : Int), .int .i64 (k : Int), .string id, .int .i64 (rn : Int), .slice A d C]] P.world fun e w' => e = .returned (.string (txU (sumB (recB E M k id rn zs)))) ∧ Below P.world.heap.size P.world w') := fun P => specPut13_any E M k id rn A d C zs P.world (HG2.out.below P.below).seg hi hd (by omega) (by omega) (by omega) hrn
  obtain ⟨tx, htx⟩ : ∃ tx, txU (sumB (recB E M k id rn zs)) = tx := ⟨_, rfl⟩
  have HTx : Hid (txU (sumB (recB E M k id rn zs)) = tx) := htx
  rw [htx] at HT
  have htxs : tx.size ≤ maxLen := by
    rw [← htx, txU_size, sumB, List.length_append, pbl_len, recB_len, HG2.out.seg.1]
    unfold maxLen
    omega
  clear htx
  have y0 : ∀ P : Past w2, P.world.cell? ⟨b, 0, none⟩ = some (.slice (some ⟨g, 0, none⟩) X.length ca) := fun P => P.cell hbw2 (HQ2.out.cell 0 rfl)
  have y3 : ∀ P : Past w2, P.world.cell? ⟨b, 3, none⟩ = some (.int .i64 (M : Int)) := fun P => P.cell hbw2 (HQ2.out.cell 3 rfl)
  have r0 : ∀ P : Past w2, P.world.cell? ⟨w.heap.size, 0, none⟩ = some (.int .i64 (E : Int)) := fun P => P.cell hpw2 (HP2.out.cell 0 rfl)
  have r1 : ∀ P : Past w2, P.world.cell? ⟨w.heap.size, 1, none⟩ = some (.int .i64 (M : Int)) := fun P => P.cell hpw2 (HP2.out.cell 1 rfl)
  have r2 : ∀ P : Past w2, P.world.cell? ⟨w.heap.size, 2, none⟩ = some (.int .i64 (k : Int)) := fun P => P.cell hpw2 (HP2.out.cell 2 rfl)
  have r3 : ∀ P : Past w2, P.world.cell? ⟨w.heap.size, 3, none⟩ = some (.string id) := fun P => P.cell hpw2 (HP2.out.cell 3 rfl)
  have r4 : ∀ P : Past w2, P.world.cell? ⟨w.heap.size, 4, none⟩ = some (.int .i64 (rn : Int)) := fun P => P.cell hpw2 (HP2.out.cell 4 rfl)
  have r5 : ∀ P : Past w2, P.world.cell? ⟨w.heap.size, 5, none⟩ = some (.slice A d C) := fun P => P.cell hpw2 (HP2.out.cell 5 rfl)
  have hps := past_some w2
  refine wp_region_past_tail 11 (by kernel_rfl) (by kernel_rfl) (fun ops HO => ?_)
  simp only [List.take_succ_cons, List.take_zero, List.drop_succ_cons, List.drop_zero]
  iterate 11 (quiet_step ((first | (go_at_call 48; with_reducible exact calls_past (HT.out _)) | fail)))
  refine wpQuiet_nil ?_
  rintro _ ⟨z, rfl⟩
  have HB3 : Hid (Below w2.heap.size w2 z.world) := z.below
  obtain ⟨w3, hw3⟩ : ∃ w3, z.world = w3 := ⟨_, rfl⟩
  rw [hw3] at HB3 ⊢
  clear hw3 z hps y0 y3 r0 r1 r2 r3 r4 r5 HT
  have HS3 : Hid (StoAt w3 lo (some ⟨g, 0, none⟩) X.length ca X a' n' ca' Y ua un uc l) := HS2.out.stays HB3.out
  have HQ3 : Hid (BoxN w3 b 32 [.slice (some ⟨g, 0, none⟩) X.length ca, .slice a' n' ca', .int .i64 (E : Int), .int .i64 (M : Int), .slice ua un uc]) := HQ2.out.stays HB3.out
  have HP3 : Hid (BoxN w3 w.heap.size 56 [.int .i64 (E : Int), .int .i64 (M : Int), .int .i64 (k : Int), .string id, .int .i64 (rn : Int), .slice A d C]) := HP2.out.stays HB3.out
  have HG3 : Hid (Owns w3 ba A d C zs) := HG2.out.below HB3.out
  have HW3 : Hid (Below lo w w3) := (HB2.out.mono hlw).trans (HB3.out.mono (Nat.le_trans hlw HB2.out.size))
  have hgb : b ≠ g := fun e => HQ3.out.noRow HS3.out.now.1 (by decide) (by rw [e]; rfl)
  have hgp : w.heap.size ≠ g := fun e => HP3.out.noRow HS3.out.now.1 (by decide) (by rw [e]; rfl)
  have hglo : lo ≤ g := (HS3.out.now.lt g rfl).1
  obtain ⟨x3, _, g3, g4⟩ := texts_cell HS3.out.now hM
  have hMi : (M : Int) < (X.length : Int) := by omega
  have hM0 : (0 : Int) ≤ (M : Int) := by omega
  obtain ⟨w4, hw4⟩ : ∃ w4, w3.setCell ⟨g, M, none⟩ (.string tx) = w4 := ⟨_, rfl⟩
  have HE4 : Hid (w3.setCell ⟨g, M, none⟩ (.string tx) = w4) := hw4
  have HS4 : Hid (StoAt w4 lo (some ⟨g, 0, none⟩) X.length ca (X.set M tx) a' n' ca' Y ua un uc l) := by show StoAt _ _ _ _ _ _ _ _ _ _ _ _ _ _; rw [← hw4]; exact HS3.out.putNow M tx htxs
  have HQ4 : Hid (BoxN w4 b 32 [.slice (some ⟨g, 0, none⟩) X.length ca, .slice a' n' ca', .int .i64 (E : Int), .int .i64 (M : Int), .slice ua un uc]) := by show BoxN _ _ _ _; rw [← hw4]; exact HQ3.out.other hgb _
  have HP4 : Hid (BoxN w4 w.heap.size 56 [.int .i64 (E : Int), .int .i64 (M : Int), .int .i64 (k : Int), .string id, .int .i64 (rn : Int), .slice A d C]) := by show BoxN _ _ _ _; rw [← hw4]; exact HP3.out.other hgp _
  have HG4 : Hid (Owns w4 ba A d C zs) := by
    show Owns _ _ _ _ _ _
    rw [← hw4]
    exact owns_set HG3.out (fun e => rows_apart HG3.out.1 HS3.out.now.1 (by decide) g (by rw [ownBlock_sU]; exact e) rfl)
  have HW4 : Hid (Below lo w w4) := by show Below _ _ _; rw [← hw4]; exact HW3.out.setCell hglo _
  clear hw4 HS2 HQ2 HP2 HG2 HB2 HB3 HS3 HQ3 HP3 HG3 HW3
  go_upto_region 4 with fail
  rw [HE4.out]
  clear HE4 g3 g4
  have c3 := HQ4.out.cell 3 rfl
  have f3 := HQ4.out.frozen 3
  have hM1 : (M : Int) + 1 < 9223372036854775808 := by omega
  obtain ⟨w5, hw5⟩ : ∃ w5, w4.setCell ⟨b, 3, none⟩ (.int .i64 ((M : Int) + 1)) = w5 := ⟨_, rfl⟩
  have HE5 : Hid (w4.setCell ⟨b, 3, none⟩ (.int .i64 ((M : Int) + 1)) = w5) := hw5
  have HS5 : Hid (StoAt w5 lo (some ⟨g, 0, none⟩) X.length ca (X.set M tx) a' n' ca' Y ua un uc l) := by show StoAt _ _ _ _ _ _ _ _ _ _ _ _ _ _; rw [← hw5]; exact HS4.out.setBox HQ4.out _
  have HQ5 : Hid (BoxN w5 b 32 [.slice (some ⟨g, 0, none⟩) X.length ca, .slice a' n' ca', .int .i64 (E : Int), .int .i64 ((M : Int) + 1), .slice ua un uc]) := by show BoxN _ _ _ _; rw [← hw5]; exact HQ4.out.set 3 _
  have HP5 : Hid (BoxN w5 w.heap.size 56 [.int .i64 (E : Int), .int .i64 (M : Int), .int .i64 (k : Int), .string id, .int .i64 (rn : Int), .slice A d C]) := by show BoxN _ _ _ _; rw [← hw5]; exact HP4.out.other (fun e => hne e.symm) _
  have HG5 : Hid (Owns w5 ba A d C zs) := by
    show Owns _ _ _ _ _ _
    rw [← hw5]
    exact owns_set HG4.out (fun e => HQ4.out.noRow HG4.out.1 (by decide) (by rw [ownBlock_sU]; exact e))
  have HW5 : Hid (Below lo w w5) := by show Below _ _ _; rw [← hw5]; exact HW4.out.setCell hlb _
  clear hw5 HS4 HQ4 HP4 HG4 HW4
  go_upto_region 5 with fail
  rw [HE5.out]
  clear HE5 c3 f3
  obtain ⟨p0, p1, p2, p3, p4, p5⟩ := (show _ ∧ _ ∧ _ ∧ _ ∧ _ ∧ _ from ⟨HP5.out.cell 0 rfl, HP5.out.cell 1 rfl, HP5.out.cell 2 rfl, HP5.out.cell 3 rfl, HP5.out.cell 4 rfl, HP5.out.cell 5 rfl⟩)
  have q4 := HQ5.out.cell 4 rfl
  have HBd : Hid (Below w5.heap.size w5 w5.drew) := (Below.refl _ _).drew
  have HC5 : Hid (Calls Tryz.prog 49 #[.slice ua un uc, .agg #[.int .i64 (E : Int), .int .i64 (M : Int), .int .i64 (k : Int), .string id, .int .i64 (rn : Int), .slice A d C]] w5.drew fun e y => ∃ va vc l', e = .returned (.tuple #[.slice va l'.length vc, .bool true]) ∧ UpRow y w5.heap.size (.slice va l'.length vc) l' ∧ l'.map UE.u = us' ∧ Below w5.heap.size w5 y) := by
    refine (specOne_any ua un uc lo l ⟨E, M, k, id, rn, zs⟩ A d C w5.drew (HS5.out.stays HBd.out).ups HL.out.1 hul HL.out.2.1 (HG5.out.below HBd.out).seg (by omega)).mono ?_
    rintro _ y ⟨⟨v, rfl, hv⟩, hb⟩
    rw [HL.out.2.2] at hv
    obtain ⟨x, l', rfl, hu, hm⟩ := hv
    obtain ⟨va, vc, rfl⟩ := hu.shape
    exact ⟨va, vc, l', rfl, hu, hm, HBd.out.trans (hb.mono HBd.out.size)⟩
  clear HBd
  go_region_with (first
    | (go_at_call 49; refine HC5.out.mono ?_; rintro _ y ⟨va, vc, l', rfl, hu6, hm6, hb6⟩
       have hq6 := HQ5.out.stays hb6
       have q4y := hq6.cell 4 rfl
       have f4y := hq6.frozen 4)
    | fail)
  all_goals
    have HF : Hid (BoxN (y.setCell ⟨b, 4, none⟩ (.slice va l'.length vc)) b 32 [.slice (some ⟨g, 0, none⟩) X.length ca, .slice a' n' ca', .int .i64 (E : Int), .int .i64 ((M : Int) + 1), .slice va l'.length vc] ∧ StoAt (y.setCell ⟨b, 4, none⟩ (.slice va l'.length vc)) lo (some ⟨g, 0, none⟩) X.length ca (X.set M tx) a' n' ca' Y va l'.length vc l' ∧ l'.map UE.u = us' ∧ Below lo w (y.setCell ⟨b, 4, none⟩ (.slice va l'.length vc))) := by
      have hlo5 : lo ≤ w5.heap.size := Nat.le_trans hlw HW5.out.size
      refine ⟨hq6.set 4 _, ?_, hm6, (HW5.out.trans (hb6.mono hlo5)).setCell hlb _⟩
      exact ((HS5.out.stays hb6).withUps (hu6.low hlo5) rfl).setBox hq6 _
    clear hq6 q4y f4y hu6 hm6 hb6 p0 p1 p2 p3 p4 p5 q4 HC5 HS5 HQ5 HP5 HG5 HW5
    go_wp2_with fail
    go_end0
    exact ⟨rfl, ⟨va, l'.length, vc, l', HF.out.1, by rw [HTx.out]; exact HF.out.2.1, HF.out.2.2.1⟩, HF.out.2.2.2⟩

end Go.Proofs.YtenkpgnkkkgdmatGreatDoor

namespace Go.Proofs.YtenkpgnkkkgdmatGreatDoor
open Go.RowKit
set_option linter.unusedVariables false

set_option maxRecDepth 10000 in
set_option maxHeartbeats 800000 in
theorem specLeft_any (a : Option Addr) (n ca : Nat) (a' : Option Addr) (n' ca' : Nat) (ep nx : Int) (ua : Option Addr) (un uc : Nat) (w : World) (hn : n ≤ 1099511627776) (hx : 0 ≤ nx ∧ nx ≤ 1099511627776) :
    Calls Tryz.prog 24 #[.agg #[.slice a n ca, .slice a' n' ca', .int .i64 ep, .int .i64 nx, .slice ua un uc]] w fun e w' => e = .returned (.int .i64 ((n : Int) - nx)) ∧ Below w.heap.size w w' := by
  obtain ⟨w0, hw0⟩ : ∃ w0, w.alloc (.cells #[.slice a n ca, .slice a' n' ca', .int .i64 ep, .int .i64 nx, .slice ua un uc] 32) = w0 := ⟨_, rfl⟩
  have HE : Hid (w.alloc (.cells #[.slice a n ca, .slice a' n' ca', .int .i64 ep, .int .i64 nx, .slice ua un uc] 32) = w0) := hw0
  have q : BoxN w0 w.heap.size 32 [.slice a n ca, .slice a' n' ca', .int .i64 ep, .int .i64 nx, .slice ua un uc] := by rw [← hw0]; exact BoxN.new _ _ _
  have HB : Hid (Below w.heap.size w w0) := by show Below _ _ _; rw [← hw0]; exact (Below.refl _ _).alloc (Nat.le_refl _) _
  have c0 := q.cell 0 rfl
  have c3 := q.cell 3 rfl
  obtain ⟨hx0, hx1⟩ := hx
  have hni : (n : Int) ≤ 1099511627776 := by omega
  clear hw0 q
  go_enter Tryz.func24, Tryz.ntmps24
  go_upto_region 1 with fail
  rw [HE.out]
  clear HE
  go_wp2_with fail
  first
    | (go_ret; exact ⟨rfl, HB.out⟩)
    | (go_quiet (fail); have HBq : Hid (Below w.heap.size w (w0.drewN nq)) := below_drewN HB.out nq; go_wp2_with fail; go_ret; exact ⟨rfl, HBq.out⟩)

end Go.Proofs.YtenkpgnkkkgdmatGreatDoor
