/- What the specification's l14Write does to a store in a variable. What the specification's l14Left answers. What a function of the store answers, in memory. No program in it but its table of types. What the specification's MakeUp answers. -/
import Derived.Test.YtlkgopoicpnacaaGreatDoorM17
import Derived.Test.YtlkgopoicpnacaaGreatDoorM09
import Derived.Test.YtlkgopoicpnacaaGreatDoorM12
import Derived.Test.YtlkgopoicpnacaaGreatDoorM21
import Derived.Deep.CutBlock
import Derived.Test.YtlkgopoicpnacaaGreatDoorM04
import Derived.BigQuiet
import Derived.Test.YtlkgopoicpnacaaGreatDoorM05
import Derived.Test.YtlkgopoicpnacaaGreatDoorM16
namespace Go.Proofs.YtlkgopoicpnacaaGreatDoor
open Go.RowKit
set_option linter.unusedVariables false

set_option maxRecDepth 10000 in
set_option maxHeartbeats 3200000 in
theorem specWrite_any (lo b : Nat) (a : Option Addr) (ca : Nat) (X : List ByteArray) (a' : Option Addr) (n' ca' : Nat) (Y : List ByteArray) (E M : Nat) (ua : Option Addr) (un uc : Nat) (l : List UE) (e0 q0 : Int) (k : Nat) (id : ByteArray) (rn : Nat) (A : Option Addr) (d C : Nat) (zs : List Int) (us' : List U) (w : World)
    (hq : BoxN w b 29 [.slice a X.length ca, .slice a' n' ca', .int .i64 (E : Int), .int .i64 (M : Int), .slice ua un uc]) (hst : StoAt w lo a X.length ca X a' n' ca' Y ua un uc l) (hlb : lo ≤ b) (ba : Nat) (hsg : Owns w ba A d C zs) (hM : M < X.length) (hXl : X.length ≤ 2097152) (hul : un ≤ 100000) (hz : ∀ e ∈ l, e.n ≤ 1099511627776)
    (hi : id.size ≤ 255) (hd : d ≤ 255) (hE : E ≤ 1000000) (hk : k ≤ 4) (hrn : rn ≤ 1000000000) (ho : oneU (l.map UE.u) ⟨E, M, k, id, rn, zs⟩ = some us') :
    Calls Tryz.prog 106 #[.pointer (some ⟨b, 0, none⟩), .agg #[.int .i64 e0, .int .i64 q0, .int .i64 (k : Int), .string id, .int .i64 (rn : Int), .slice A d C]] w fun e w' =>
      e = .returned (.tuple #[]) ∧ (∃ ua' un' uc' l', BoxN w' b 29 [.slice a X.length ca, .slice a' n' ca', .int .i64 (E : Int), .int .i64 ((M : Int) + 1), .slice ua' un' uc'] ∧ StoAt w' lo a X.length ca (X.set M (txU (sumB (recB E M k id rn zs)))) a' n' ca' Y ua' un' uc' l' ∧ l'.map UE.u = us') ∧ Below lo w w' := by
  have hlw : lo ≤ w.heap.size := Nat.le_of_lt (Nat.lt_of_le_of_lt hlb hq.lt)
  have hbw : b < w.heap.size := hq.lt
  have hne : b ≠ w.heap.size := by omega
  obtain ⟨g, rfl⟩ := texts_at hst.now (by omega)
  obtain ⟨w0, hw0⟩ : ∃ w0, w.alloc (.cells #[.int .i64 e0, .int .i64 q0, .int .i64 (k : Int), .string id, .int .i64 (rn : Int), .slice A d C] 107) = w0 := ⟨_, rfl⟩
  have HE0 : Hid (w.alloc (.cells #[.int .i64 e0, .int .i64 q0, .int .i64 (k : Int), .string id, .int .i64 (rn : Int), .slice A d C] 107) = w0) := hw0
  have hb0 : Below w.heap.size w w0 := by rw [← hw0]; exact (Below.refl _ _).alloc (Nat.le_refl _) _
  have hp0 : BoxN w0 w.heap.size 107 [.int .i64 e0, .int .i64 q0, .int .i64 (k : Int), .string id, .int .i64 (rn : Int), .slice A d C] := by rw [← hw0]; exact BoxN.new _ _ _
  have hq0 := hq.stays hb0
  have hs0 := hst.stays hb0
  clear hw0
  obtain ⟨w2, hw2⟩ : ∃ w2, (w0.setCell ⟨w.heap.size, 0, none⟩ (.int .i64 (E : Int))).setCell ⟨w.heap.size, 1, none⟩ (.int .i64 (M : Int)) = w2 := ⟨_, rfl⟩
  have HE2 : Hid ((w0.setCell ⟨w.heap.size, 0, none⟩ (.int .i64 (E : Int))).setCell ⟨w.heap.size, 1, none⟩ (.int .i64 (M : Int)) = w2) := hw2
  have HP2 : Hid (BoxN w2 w.heap.size 107 [.int .i64 (E : Int), .int .i64 (M : Int), .int .i64 (k : Int), .string id, .int .i64 (rn : Int), .slice A d C]) := by show BoxN _ _ _ _; rw [← hw2]; exact (hp0.set 0 _).set 1 _
  have HQ2 : Hid (BoxN w2 b 29 [.slice (some ⟨g, 0, none⟩) X.length ca, .slice a' n' ca', .int .i64 (E : Int), .int .i64 (M : Int), .slice ua un uc]) := by show BoxN _ _ _ _; rw [← hw2]; exact (hq0.other hne _).other hne _
  have HS2 : Hid (StoAt w2 lo (some ⟨g, 0, none⟩) X.length ca X a' n' ca' Y ua un uc l) := by
    show StoAt _ _ _ _ _ _ _ _ _ _ _ _ _ _
    rw [← hw2]
    exact (hs0.setBox (i := 0) hp0 _).setBox (i := 1) (hp0.set 0 _) _
  have HB2 : Hid (Below w.heap.size w w2) := by show Below _ _ _; rw [← hw2]; exact (hb0.setCell (Nat.le_refl _) _).setCell (Nat.le_refl _) _
  have HG2 : Hid (Owns w2 ba A d C zs) := hsg.below HB2.out
  have c2 := hq0.cell 2 rfl
  have c3 := (hq0.other (b' := w.heap.size) (k := 0) hne (.int .i64 (E : Int))).cell 3 rfl
  have p0 := hp0.cell 0 rfl
  have p1 := (hp0.set 0 (.int .i64 (E : Int))).cell 1 rfl
  have z0 := hp0.frozen 0
  have z1 := (hp0.set 0 (.int .i64 (E : Int))).frozen 1
  have HL : Hid (un = l.length ∧ (∀ e ∈ l, e.n ≤ 1099511627776) ∧ oneU (l.map UE.u) ⟨E, M, k, id, rn, zs⟩ = some us') := ⟨hst.len, hz, ho⟩
  clear hq hst hsg hb0 hp0 hq0 hs0 hz ho hw2
  go_enter Tryz.func106, Tryz.ntmps106
  go_upto_region 1 with fail
  rw [HE0.out]
  clear HE0
  go_upto_region 3 with fail
  rw [HE2.out]
  clear HE2 c2 c3 p0 p1 z0 z1
  have hbw2 : b < w2.heap.size := HQ2.out.lt
  have hpw2 : w.heap.size < w2.heap.size := HP2.out.lt
  have HT : Hid (∀ P : Past w2, Calls Tryz.prog 119 #[.agg #[.int .i64 (E : Int), .int .i64 (M : Int), .int .i64 (k : Int), .string id, .int .i64 (rn : Int), .slice A d C]] P.world fun e w' => e = .returned (.string (txU (sumB (recB E M k id rn zs)))) ∧ Below P.world.heap.size P.world w') := fun P => specPut13_any E M k id rn A d C zs P.world (HG2.out.below P.below).seg hi hd (by omega) (by omega) (by omega) hrn
  obtain ⟨tx, htx⟩ : ∃ tx, txU (sumB (recB E M k id rn zs)) = tx := ⟨_, rfl⟩
  have HTx : Hid (txU (sumB (recB E M k id rn zs)) = tx) := htx
  rw [htx] at HT
  have htxs : tx.size ≤ maxLen := by
    rw [← htx, txU_size, sumB, List.length_append, pbl_len, recB_len, HG2.out.seg.1]
    unfold maxLen
    omega
  clear htx
  have y0 : ∀ P : Past w2, P.world.cell? ⟨b, 0, none⟩ = some (.slice (some ⟨g, 0, none⟩) X.length ca) := fun P => P.cell hbw2 (HQ2.out.cell 0 rfl)
  have y3 : ∀ P : Past w2, P.world.cell? ⟨b, 3, none⟩ = some (.int .i64 (M : Int)) := fun P => P.cell hbw2 (HQ2.out.cell 3 rfl)
  have r0 : ∀ P : Past w2, P.world.cell? ⟨w.heap.size, 0, none⟩ = some (.int .i64 (E : Int)) := fun P => P.cell hpw2 (HP2.out.cell 0 rfl)
  have r1 : ∀ P : Past w2, P.world.cell? ⟨w.heap.size, 1, none⟩ = some (.int .i64 (M : Int)) := fun P => P.cell hpw2 (HP2.out.cell 1 rfl)
  have r2 : ∀ P : Past w2, P.world.cell? ⟨w.heap.size, 2, none⟩ = some (.int .i64 (k : Int)) := fun P => P.cell hpw2 (HP2.out.cell 2 rfl)
  have r3 : ∀ P : Past w2, P.world.cell? ⟨w.heap.size, 3, none⟩ = some (.string id) := fun P => P.cell hpw2 (HP2.out.cell 3 rfl)
  have r4 : ∀ P : Past w2, P.world.cell? ⟨w.heap.size, 4, none⟩ = some (.int .i64 (rn : Int)) := fun P => P.cell hpw2 (HP2.out.cell 4 rfl)
  have r5 : ∀ P : Past w2, P.world.cell? ⟨w.heap.size, 5, none⟩ = some (.slice A d C) := fun P => P.cell hpw2 (HP2.out.cell 5 rfl)
  have hps := past_some w2
  refine wp_region_past_tail 11 (by kernel_rfl) (by kernel_rfl) (fun ops HO => ?_)
  simp only [List.take_succ_cons, List.take_zero, List.drop_succ_cons, List.drop_zero]
  iterate 11 (quiet_step ((first | (go_at_call 119; with_reducible exact calls_past (HT.out _)) | fail)))
  refine wpQuiet_nil ?_
  rintro _ ⟨z, rfl⟩
  have HB3 : Hid (Below w2.heap.size w2 z.world) := z.below
  obtain ⟨w3, hw3⟩ : ∃ w3, z.world = w3 := ⟨_, rfl⟩
  rw [hw3] at HB3 ⊢
  clear hw3 z hps y0 y3 r0 r1 r2 r3 r4 r5 HT
  have HS3 : Hid (StoAt w3 lo (some ⟨g, 0, none⟩) X.length ca X a' n' ca' Y ua un uc l) := HS2.out.stays HB3.out
  have HQ3 : Hid (BoxN w3 b 29 [.slice (some ⟨g, 0, none⟩) X.length ca, .slice a' n' ca', .int .i64 (E : Int), .int .i64 (M : Int), .slice ua un uc]) := HQ2.out.stays HB3.out
  have HP3 : Hid (BoxN w3 w.heap.size 107 [.int .i64 (E : Int), .int .i64 (M : Int), .int .i64 (k : Int), .string id, .int .i64 (rn : Int), .slice A d C]) := HP2.out.stays HB3.out
  have HG3 : Hid (Owns w3 ba A d C zs) := HG2.out.below HB3.out
  have HW3 : Hid (Below lo w w3) := (HB2.out.mono hlw).trans (HB3.out.mono (Nat.le_trans hlw HB2.out.size))
  have hgb : b ≠ g := fun e => HQ3.out.noRow HS3.out.now.1 (by decide) (by rw [e]; rfl)
  have hgp : w.heap.size ≠ g := fun e => HP3.out.noRow HS3.out.now.1 (by decide) (by rw [e]; rfl)
  have hglo : lo ≤ g := (HS3.out.now.lt g rfl).1
  obtain ⟨x3, _, g3, g4⟩ := texts_cell HS3.out.now hM
  have hMi : (M : Int) < (X.length : Int) := by omega
  have hM0 : (0 : Int) ≤ (M : Int) := by omega
  obtain ⟨w4, hw4⟩ : ∃ w4, w3.setCell ⟨g, M, none⟩ (.string tx) = w4 := ⟨_, rfl⟩
  have HE4 : Hid (w3.setCell ⟨g, M, none⟩ (.string tx) = w4) := hw4
  have HS4 : Hid (StoAt w4 lo (some ⟨g, 0, none⟩) X.length ca (X.set M tx) a' n' ca' Y ua un uc l) := by show StoAt _ _ _ _ _ _ _ _ _ _ _ _ _ _; rw [← hw4]; exact HS3.out.putNow M tx htxs
  have HQ4 : Hid (BoxN w4 b 29 [.slice (some ⟨g, 0, none⟩) X.length ca, .slice a' n' ca', .int .i64 (E : Int), .int .i64 (M : Int), .slice ua un uc]) := by show BoxN _ _ _ _; rw [← hw4]; exact HQ3.out.other hgb _
  have HP4 : Hid (BoxN w4 w.heap.size 107 [.int .i64 (E : Int), .int .i64 (M : Int), .int .i64 (k : Int), .string id, .int .i64 (rn : Int), .slice A d C]) := by show BoxN _ _ _ _; rw [← hw4]; exact HP3.out.other hgp _
  have HG4 : Hid (Owns w4 ba A d C zs) := by
    show Owns _ _ _ _ _ _
    rw [← hw4]
    exact owns_set HG3.out (fun e => rows_apart HG3.out.1 HS3.out.now.1 (by decide) g (by rw [ownBlock_sU]; exact e) rfl)
  have HW4 : Hid (Below lo w w4) := by show Below _ _ _; rw [← hw4]; exact HW3.out.setCell hglo _
  clear hw4 HS2 HQ2 HP2 HG2 HB2 HB3 HS3 HQ3 HP3 HG3 HW3
  go_upto_region 4 with fail
  rw [HE4.out]
  clear HE4 g3 g4
  have c3 := HQ4.out.cell 3 rfl
  have f3 := HQ4.out.frozen 3
  have hM1 : (M : Int) + 1 < 9223372036854775808 := by omega
  obtain ⟨w5, hw5⟩ : ∃ w5, w4.setCell ⟨b, 3, none⟩ (.int .i64 ((M : Int) + 1)) = w5 := ⟨_, rfl⟩
  have HE5 : Hid (w4.setCell ⟨b, 3, none⟩ (.int .i64 ((M : Int) + 1)) = w5) := hw5
  have HS5 : Hid (StoAt w5 lo (some ⟨g, 0, none⟩) X.length ca (X.set M tx) a' n' ca' Y ua un uc l) := by show StoAt _ _ _ _ _ _ _ _ _ _ _ _ _ _; rw [← hw5]; exact HS4.out.setBox HQ4.out _
  have HQ5 : Hid (BoxN w5 b 29 [.slice (some ⟨g, 0, none⟩) X.length ca, .slice a' n' ca', .int .i64 (E : Int), .int .i64 ((M : Int) + 1), .slice ua un uc]) := by show BoxN _ _ _ _; rw [← hw5]; exact HQ4.out.set 3 _
  have HP5 : Hid (BoxN w5 w.heap.size 107 [.int .i64 (E : Int), .int .i64 (M : Int), .int .i64 (k : Int), .string id, .int .i64 (rn : Int), .slice A d C]) := by show BoxN _ _ _ _; rw [← hw5]; exact HP4.out.other (fun e => hne e.symm) _
  have HG5 : Hid (Owns w5 ba A d C zs) := by
    show Owns _ _ _ _ _ _
    rw [← hw5]
    exact owns_set HG4.out (fun e => HQ4.out.noRow HG4.out.1 (by decide) (by rw [ownBlock_sU]; exact e))
  have HW5 : Hid (Below lo w w5) := by show Below _ _ _; rw [← hw5]; exact HW4.out.setCell hlb _
  clear hw5 HS4 HQ4 HP4 HG4 HW4
  go_upto_region 5 with fail
  rw [HE5.out]
  clear HE5 c3 f3
  obtain ⟨p0, p1, p2, p3, p4, p5⟩ := (show _ ∧ _ ∧ _ ∧ _ ∧ _ ∧ _ from ⟨HP5.out.cell 0 rfl, HP5.out.cell 1 rfl, HP5.out.cell 2 rfl, HP5.out.cell 3 rfl, HP5.out.cell 4 rfl, HP5.out.cell 5 rfl⟩)
  have q4 := HQ5.out.cell 4 rfl
  have HBd : Hid (Below w5.heap.size w5 w5.drew) := (Below.refl _ _).drew
  have HC5 : Hid (Calls Tryz.prog 104 #[.slice ua un uc, .agg #[.int .i64 (E : Int), .int .i64 (M : Int), .int .i64 (k : Int), .string id, .int .i64 (rn : Int), .slice A d C]] w5.drew fun e y => ∃ va vc l', e = .returned (.tuple #[.slice va l'.length vc, .bool true]) ∧ UpRow y w5.heap.size (.slice va l'.length vc) l' ∧ l'.map UE.u = us' ∧ Below w5.heap.size w5 y) := by
    refine (specOne_any ua un uc lo l ⟨E, M, k, id, rn, zs⟩ A d C w5.drew (HS5.out.stays HBd.out).ups HL.out.1 hul HL.out.2.1 (HG5.out.below HBd.out).seg (by omega)).mono ?_
    rintro _ y ⟨⟨v, rfl, hv⟩, hb⟩
    rw [HL.out.2.2] at hv
    obtain ⟨x, l', rfl, hu, hm⟩ := hv
    obtain ⟨va, vc, rfl⟩ := hu.shape
    exact ⟨va, vc, l', rfl, hu, hm, HBd.out.trans (hb.mono HBd.out.size)⟩
  clear HBd
  go_region_with (first
    | (go_at_call 104; refine HC5.out.mono ?_; rintro _ y ⟨va, vc, l', rfl, hu6, hm6, hb6⟩
       have hq6 := HQ5.out.stays hb6
       have q4y := hq6.cell 4 rfl
       have f4y := hq6.frozen 4)
    | fail)
  all_goals
    have HF : Hid (BoxN (y.setCell ⟨b, 4, none⟩ (.slice va l'.length vc)) b 29 [.slice (some ⟨g, 0, none⟩) X.length ca, .slice a' n' ca', .int .i64 (E : Int), .int .i64 ((M : Int) + 1), .slice va l'.length vc] ∧ StoAt (y.setCell ⟨b, 4, none⟩ (.slice va l'.length vc)) lo (some ⟨g, 0, none⟩) X.length ca (X.set M tx) a' n' ca' Y va l'.length vc l' ∧ l'.map UE.u = us' ∧ Below lo w (y.setCell ⟨b, 4, none⟩ (.slice va l'.length vc))) := by
      have hlo5 : lo ≤ w5.heap.size := Nat.le_trans hlw HW5.out.size
      refine ⟨hq6.set 4 _, ?_, hm6, (HW5.out.trans (hb6.mono hlo5)).setCell hlb _⟩
      exact ((HS5.out.stays hb6).withUps (hu6.low hlo5) rfl).setBox hq6 _
    clear hq6 q4y f4y hu6 hm6 hb6 p0 p1 p2 p3 p4 p5 q4 HC5 HS5 HQ5 HP5 HG5 HW5
    go_wp2_with fail
    go_end0
    exact ⟨rfl, ⟨va, l'.length, vc, l', HF.out.1, by rw [HTx.out]; exact HF.out.2.1, HF.out.2.2.1⟩, HF.out.2.2.2⟩

end Go.Proofs.YtlkgopoicpnacaaGreatDoor

namespace Go.Proofs.YtlkgopoicpnacaaGreatDoor
open Go.RowKit
set_option linter.unusedVariables false

set_option maxRecDepth 10000 in
set_option maxHeartbeats 800000 in
theorem specLeft_any (a : Option Addr) (n ca : Nat) (a' : Option Addr) (n' ca' : Nat) (ep nx : Int) (ua : Option Addr) (un uc : Nat) (w : World) (hn : n ≤ 1099511627776) (hx : 0 ≤ nx ∧ nx ≤ 1099511627776) :
    Calls Tryz.prog 105 #[.agg #[.slice a n ca, .slice a' n' ca', .int .i64 ep, .int .i64 nx, .slice ua un uc]] w fun e w' => e = .returned (.int .i64 ((n : Int) - nx)) ∧ Below w.heap.size w w' := by
  obtain ⟨w0, hw0⟩ : ∃ w0, w.alloc (.cells #[.slice a n ca, .slice a' n' ca', .int .i64 ep, .int .i64 nx, .slice ua un uc] 29) = w0 := ⟨_, rfl⟩
  have HE : Hid (w.alloc (.cells #[.slice a n ca, .slice a' n' ca', .int .i64 ep, .int .i64 nx, .slice ua un uc] 29) = w0) := hw0
  have q : BoxN w0 w.heap.size 29 [.slice a n ca, .slice a' n' ca', .int .i64 ep, .int .i64 nx, .slice ua un uc] := by rw [← hw0]; exact BoxN.new _ _ _
  have HB : Hid (Below w.heap.size w w0) := by show Below _ _ _; rw [← hw0]; exact (Below.refl _ _).alloc (Nat.le_refl _) _
  have c0 := q.cell 0 rfl
  have c3 := q.cell 3 rfl
  obtain ⟨hx0, hx1⟩ := hx
  have hni : (n : Int) ≤ 1099511627776 := by omega
  clear hw0 q
  go_enter Tryz.func105, Tryz.ntmps105
  go_upto_region 1 with fail
  rw [HE.out]
  clear HE
  go_wp2_with fail
  first
    | (go_ret; exact ⟨rfl, HB.out⟩)
    | (go_quiet (fail); have HBq : Hid (Below w.heap.size w (w0.drewN nq)) := below_drewN HB.out nq; go_wp2_with fail; go_ret; exact ⟨rfl, HBq.out⟩)

end Go.Proofs.YtlkgopoicpnacaaGreatDoor

namespace Go.Proofs.YtlkgopoicpnacaaGreatDoor
open Go.RowKit
set_option linter.unusedVariables false

/-- A store and a code are answered. -/
def WAns (base : Nat) (Y : List ByteArray) (ep : Int) (a : WA) (e : Ending) (w' : World) : Prop := ∃ v, e = .returned (.tuple #[v, .int .i64 a.c]) ∧ AnsS base a.X Y ep a.nx a.us v w'

/-- Uploads that say the same have as many bytes. -/
theorem sizes_same {W W' : World} {b b' B : Nat} {v v' : Value} {l l' : List UE} (hm : l'.map UE.u = l.map UE.u) (h' : UpRow W' b' v' l') (h : UpRow W b v l) (hz : ∀ e ∈ l, e.n ≤ B) : ∀ e ∈ l', e.n ≤ B := by
  intro e he
  have h1 : e.u ∈ l.map UE.u := by rw [← hm]; exact List.mem_map_of_mem he
  obtain ⟨x, hx, hxe⟩ := List.mem_map.1 h1
  have h2 := (h'.2.1 e he).seg.1
  have h3 := (h.2.1 x hx).seg.1
  have h4 := hz x hx
  rw [hxe] at h3
  omega

end Go.Proofs.YtlkgopoicpnacaaGreatDoor

namespace Go.Proofs.YtlkgopoicpnacaaGreatDoor
open Go.RowKit
set_option linter.unusedVariables false

set_option maxRecDepth 10000 in
set_option maxHeartbeats 3200000 in
theorem specMake_any (a : Option Addr) (n ca : Nat) (X : List ByteArray) (a' : Option Addr) (n' ca' : Nat) (Y : List ByteArray) (ep nx : Int) (ua : Option Addr) (un uc lo : Nat) (l : List UE) (id : ByteArray) (want : Int) (w : World) (h1 : Strs w a n X) (h2 : Strs w a' n' Y) (hn : n ≤ 1048576) (hn' : n' ≤ 1048576) (hzx : ∀ x ∈ X, x.size ≤ 1048576) (hu : UpRow w lo (.slice ua un uc) l) (hun : un = l.length) (hul : un ≤ 1048576) (hz : ∀ e ∈ l, e.n ≤ 1099511627776) (hid : id.size ≤ maxLen) (hwb : -9223372036854775808 ≤ want ∧ want ≤ 9223372036854775807) :
    Calls Tryz.prog 83 #[.agg #[.slice a n ca, .slice a' n' ca', .int .i64 ep, .int .i64 nx, .slice ua un uc], .string id, .int .i64 want] w fun e w' => WAns w.heap.size Y ep (makeA X Y ep nx (l.map UE.u) id want) e w' ∧ Below w.heap.size w w' := by
  have hmm : maxLen < 9223372036854775808 := by decide
  obtain ⟨W2, hW2⟩ : ∃ W2, (w.alloc (.cells #[.slice a n ca, .slice a' n' ca', .int .i64 ep, .int .i64 nx, .slice ua un uc] 29)).alloc (.cells #[.slice none 0 0, .slice none 0 0, .int .i64 0, .int .i64 0, .slice none 0 0] 29) = W2 := ⟨_, rfl⟩
  have HE : Hid ((w.alloc (.cells #[.slice a n ca, .slice a' n' ca', .int .i64 ep, .int .i64 nx, .slice ua un uc] 29)).alloc (.cells #[.slice none 0 0, .slice none 0 0, .int .i64 0, .int .i64 0, .slice none 0 0] 29) = W2) := hW2
  have HB2 : Hid (Below w.heap.size w W2) := by show Below _ _ _; rw [← hW2]; exact ((Below.refl _ _).alloc (Nat.le_refl _) _).alloc (by simp) _
  have q1 : BoxN W2 w.heap.size 29 [.slice a n ca, .slice a' n' ca', .int .i64 ep, .int .i64 nx, .slice ua un uc] := by rw [← hW2]; exact (BoxN.new _ _ _).alloc _
  have q2 : BoxN W2 (w.heap.size + 1) 29 [.slice none 0 0, .slice none 0 0, .int .i64 0, .int .i64 0, .slice none 0 0] := by
    rw [← hW2]
    have := BoxN.new (w.alloc (.cells #[.slice a n ca, .slice a' n' ca', .int .i64 ep, .int .i64 nx, .slice ua un uc] 29)) 29 [.slice none 0 0, .slice none 0 0, .int .i64 0, .int .i64 0, .slice none 0 0]
    rwa [World.size_alloc] at this
  have HQ : Hid (∀ W, Below W2.heap.size W2 W → BoxN W w.heap.size 29 [.slice a n ca, .slice a' n' ca', .int .i64 ep, .int .i64 nx, .slice ua un uc] ∧ BoxN W (w.heap.size + 1) 29 [.slice none 0 0, .slice none 0 0, .int .i64 0, .int .i64 0, .slice none 0 0]) := fun W h => ⟨q1.stays h, q2.stays h⟩
  have HX : Hid (∀ W, Below W2.heap.size W2 W → Strs W a n X ∧ Strs W a' n' Y ∧ UpRow W lo (.slice ua un uc) l) := fun W h => by
    have hw := HB2.out.trans (h.mono HB2.out.size)
    exact ⟨h1.below hw, h2.below hw, hu.stays hw⟩
  have HL : Hid (un = l.length ∧ (∀ e ∈ l, e.n ≤ 1099511627776) ∧ (∀ x ∈ X, x.size ≤ 1048576) ∧ X.length = n) := ⟨hun, hz, hzx, h1.1⟩
  have hs2 : w.heap.size + 1 < W2.heap.size := q2.lt
  clear hW2 q1 q2 h1 h2 hu hun hz hzx
  obtain ⟨c0, c1, c2, c3, c4⟩ := (show _ ∧ _ ∧ _ ∧ _ ∧ _ from ⟨(HQ.out _ (Below.refl _ _)).1.cell 0 rfl, (HQ.out _ (Below.refl _ _)).1.cell 1 rfl, (HQ.out _ (Below.refl _ _)).1.cell 2 rfl, (HQ.out _ (Below.refl _ _)).1.cell 3 rfl, (HQ.out _ (Below.refl _ _)).1.cell 4 rfl⟩)
  go_enter Tryz.func83, Tryz.ntmps83
  go_upto_region 1 with fail
  rw [HE.out]
  clear HE
  go_wp2_with fail
  refine (specScopy_any a n ca X a' n' ca' Y ep nx ua un uc lo l W2 (HX.out _ (Below.refl _ _)).1 (HX.out _ (Below.refl _ _)).2.1 hn hn' (HX.out _ (Below.refl _ _)).2.2 HL.out.1 hul HL.out.2.1).mono ?_
  rintro e y1 ⟨⟨v, rfl, hv⟩, hb1⟩
  obtain ⟨b, cb, b', cb', va, vc, l', rfl, hs1, hm1⟩ := hv.get
  rw [List.length_map, ← HL.out.1] at hs1 ⊢
  have HA1 : Hid (SAt (y1.alloc (.cells #[.slice b X.length cb, .slice b' Y.length cb', .int .i64 ep, .int .i64 nx, .slice va un vc] 29)) W2.heap.size y1.heap.size b X.length cb X b' Y.length cb' Y ep nx va un vc l') := SAt.new hs1 hb1.size
  have HC1 : Hid (Below W2.heap.size W2 (y1.alloc (.cells #[.slice b X.length cb, .slice b' Y.length cb', .int .i64 ep, .int .i64 nx, .slice va un vc] 29))) := hb1.alloc hb1.size _
  have HM : Hid (l'.map UE.u = l.map UE.u) := hm1
  have HZ' : Hid (∀ e ∈ l', e.n ≤ 1099511627776) := sizes_same hm1 hs1.ups (HX.out _ (Below.refl _ _)).2.2 HL.out.2.1
  clear hv hs1 hb1 hm1 c0 c1 c2 c3 c4
  obtain ⟨d0, d1, d2, d3, d4⟩ := (show _ ∧ _ ∧ _ ∧ _ ∧ _ from ⟨(HQ.out _ HC1.out).1.cell 0 rfl, (HQ.out _ HC1.out).1.cell 1 rfl, (HQ.out _ HC1.out).1.cell 2 rfl, (HQ.out _ HC1.out).1.cell 3 rfl, (HQ.out _ HC1.out).1.cell 4 rfl⟩)
  go_wp2_with fail
  obtain ⟨w1, hw1⟩ : ∃ w1, y1.alloc (.cells #[.slice b X.length cb, .slice b' Y.length cb', .int .i64 ep, .int .i64 nx, .slice va un vc] 29) = w1 := ⟨_, rfl⟩
  rw [hw1] at HA1 HC1 ⊢
  clear hw1 d0 d1 d2 d3 d4
  have hlo : W2.heap.size ≤ y1.heap.size := HA1.out.lob
  generalize y1.heap.size = bo at *
  refine (specSok_any a n ca X a' n' ca' Y ep nx ua un uc lo l w1 (HX.out _ HC1.out).1 (HX.out _ HC1.out).2.1 hn hn' HL.out.2.2.1 (HX.out _ HC1.out).2.2 HL.out.1 hul).mono ?_
  rintro e y2 ⟨⟨ok, rfl, hok⟩, hb2⟩
  have hdb : ok = decB (SOk X Y ep nx (l.map UE.u)) := decB_iff hok
  have HA2 : Hid (SAt y2 W2.heap.size bo b X.length cb X b' Y.length cb' Y ep nx va un vc l') := HA1.out.stays hb2
  have HC2 : Hid (Below W2.heap.size W2 y2) := HC1.out.trans (hb2.mono HC1.out.size)
  clear hb2 HA1 HC1
  cases ok with
  | false =>
    have hno : ¬ decB (SOk X Y ep nx (l.map UE.u)) = true := by rw [← hdb]; simp
    clear hok hdb
    have HRs : Hid (makeA X Y ep nx (l.map UE.u) id want = ⟨X, nx, l.map UE.u, 1⟩) := if_neg (fun h => hno h.1)
    have HBw : Hid (Below w.heap.size w y2) := HB2.out.trans (HC2.out.mono HB2.out.size)
    obtain ⟨r0, r1, r2, r3, r4⟩ := (show _ ∧ _ ∧ _ ∧ _ ∧ _ from ⟨(HQ.out _ HC2.out).2.cell 0 rfl, (HQ.out _ HC2.out).2.cell 1 rfl, (HQ.out _ HC2.out).2.cell 2 rfl, (HQ.out _ HC2.out).2.cell 3 rfl, (HQ.out _ HC2.out).2.cell 4 rfl⟩)
    obtain ⟨f0, f1, f2, f3, f4⟩ := (show _ ∧ _ ∧ _ ∧ _ ∧ _ from ⟨(HQ.out _ HC2.out).2.frozen 0, (HQ.out _ HC2.out).2.frozen 1, (HQ.out _ HC2.out).2.frozen 2, (HQ.out _ HC2.out).2.frozen 3, (HQ.out _ HC2.out).2.frozen 4⟩)
    obtain ⟨o0, o1, o2, o3, o4⟩ := (show _ ∧ _ ∧ _ ∧ _ ∧ _ from ⟨HA2.out.box.cell 0 rfl, HA2.out.box.cell 1 rfl, HA2.out.box.cell 2 rfl, HA2.out.box.cell 3 rfl, HA2.out.box.cell 4 rfl⟩)
    have HSt : Hid (StoAt y2 W2.heap.size b X.length cb X b' Y.length cb' Y va un vc l') := HA2.out.sto
    clear HQ HX HC2 HA2
    go_wp2_with fail
    refine bodyPost_ret (v := .tuple #[.agg #[.slice b X.length cb, .slice b' Y.length cb', .int .i64 ep, .int .i64 nx, .slice va un vc], .int .i64 1]) (by simp [results, Tryz.f83, go_sem, r0, r1, r2, r3, r4]) rfl ?_
    refine ⟨?_, ?_⟩
    · rw [WAns, HRs.out]
      exact ⟨_, rfl, b, X.length, cb, b', Y.length, cb', va, un, vc, l', rfl, (((((HSt.out.setLow (by omega) _).setLow (by omega) _).setLow (by omega) _).setLow (by omega) _).setLow (by omega) _).low (by omega), HM.out⟩
    · exact ((((HBw.out.setCell (by dsimp only; omega) _).setCell (by dsimp only; omega) _).setCell (by dsimp only; omega) _).setCell (by dsimp only; omega) _).setCell (by dsimp only; omega) _
  | true =>
  have HSo : Hid (SOk X Y ep nx (l.map UE.u)) := hok.1 rfl
  have HDb : Hid (decB (SOk X Y ep nx (l.map UE.u)) = true) := hdb.symm
  clear hok hdb
  go_wp2_with fail
  refine (specId_any id y2 (by omega)).mono ?_
  rintro _ y2 ⟨rfl, rfl⟩
  cases hidB : idB id.data.toList with
  | false =>
    have hno : ¬ idB id.data.toList = true := by rw [hidB]; simp
    clear hidB
    have HRs : Hid (makeA X Y ep nx (l.map UE.u) id want = ⟨X, nx, l.map UE.u, 1⟩) := if_neg (fun h => hno h.2.1)
    have HBw : Hid (Below w.heap.size w y2) := HB2.out.trans (HC2.out.mono HB2.out.size)
    obtain ⟨r0, r1, r2, r3, r4⟩ := (show _ ∧ _ ∧ _ ∧ _ ∧ _ from ⟨(HQ.out _ HC2.out).2.cell 0 rfl, (HQ.out _ HC2.out).2.cell 1 rfl, (HQ.out _ HC2.out).2.cell 2 rfl, (HQ.out _ HC2.out).2.cell 3 rfl, (HQ.out _ HC2.out).2.cell 4 rfl⟩)
    obtain ⟨f0, f1, f2, f3, f4⟩ := (show _ ∧ _ ∧ _ ∧ _ ∧ _ from ⟨(HQ.out _ HC2.out).2.frozen 0, (HQ.out _ HC2.out).2.frozen 1, (HQ.out _ HC2.out).2.frozen 2, (HQ.out _ HC2.out).2.frozen 3, (HQ.out _ HC2.out).2.frozen 4⟩)
    obtain ⟨o0, o1, o2, o3, o4⟩ := (show _ ∧ _ ∧ _ ∧ _ ∧ _ from ⟨HA2.out.box.cell 0 rfl, HA2.out.box.cell 1 rfl, HA2.out.box.cell 2 rfl, HA2.out.box.cell 3 rfl, HA2.out.box.cell 4 rfl⟩)
    have HSt : Hid (StoAt y2 W2.heap.size b X.length cb X b' Y.length cb' Y va un vc l') := HA2.out.sto
    clear HQ HX HC2 HA2
    go_wp2_with fail
    refine bodyPost_ret (v := .tuple #[.agg #[.slice b X.length cb, .slice b' Y.length cb', .int .i64 ep, .int .i64 nx, .slice va un vc], .int .i64 1]) (by simp [results, Tryz.f83, go_sem, r0, r1, r2, r3, r4]) rfl ?_
    refine ⟨?_, ?_⟩
    · rw [WAns, HRs.out]
      exact ⟨_, rfl, b, X.length, cb, b', Y.length, cb', va, un, vc, l', rfl, (((((HSt.out.setLow (by omega) _).setLow (by omega) _).setLow (by omega) _).setLow (by omega) _).setLow (by omega) _).low (by omega), HM.out⟩
    · exact ((((HBw.out.setCell (by dsimp only; omega) _).setCell (by dsimp only; omega) _).setCell (by dsimp only; omega) _).setCell (by dsimp only; omega) _).setCell (by dsimp only; omega) _
  | true =>
  have HId : Hid (idB id.data.toList = true) := hidB
  clear hidB
  go_wp2_with fail
  refine (l1In_any want 0 1000000 y2).mono ?_
  rintro _ y2 ⟨rfl, rfl⟩
  by_cases hwant : 0 ≤ want ∧ want ≤ 1000000
  case neg =>
    rw [decide_eq_false hwant]
    have HRs : Hid (makeA X Y ep nx (l.map UE.u) id want = ⟨X, nx, l.map UE.u, 1⟩) := if_neg (fun h => hwant h.2.2)
    have HBw : Hid (Below w.heap.size w y2) := HB2.out.trans (HC2.out.mono HB2.out.size)
    obtain ⟨r0, r1, r2, r3, r4⟩ := (show _ ∧ _ ∧ _ ∧ _ ∧ _ from ⟨(HQ.out _ HC2.out).2.cell 0 rfl, (HQ.out _ HC2.out).2.cell 1 rfl, (HQ.out _ HC2.out).2.cell 2 rfl, (HQ.out _ HC2.out).2.cell 3 rfl, (HQ.out _ HC2.out).2.cell 4 rfl⟩)
    obtain ⟨f0, f1, f2, f3, f4⟩ := (show _ ∧ _ ∧ _ ∧ _ ∧ _ from ⟨(HQ.out _ HC2.out).2.frozen 0, (HQ.out _ HC2.out).2.frozen 1, (HQ.out _ HC2.out).2.frozen 2, (HQ.out _ HC2.out).2.frozen 3, (HQ.out _ HC2.out).2.frozen 4⟩)
    obtain ⟨o0, o1, o2, o3, o4⟩ := (show _ ∧ _ ∧ _ ∧ _ ∧ _ from ⟨HA2.out.box.cell 0 rfl, HA2.out.box.cell 1 rfl, HA2.out.box.cell 2 rfl, HA2.out.box.cell 3 rfl, HA2.out.box.cell 4 rfl⟩)
    have HSt : Hid (StoAt y2 W2.heap.size b X.length cb X b' Y.length cb' Y va un vc l') := HA2.out.sto
    clear HQ HX HC2 HA2
    go_wp2_with fail
    refine bodyPost_ret (v := .tuple #[.agg #[.slice b X.length cb, .slice b' Y.length cb', .int .i64 ep, .int .i64 nx, .slice va un vc], .int .i64 1]) (by simp [results, Tryz.f83, go_sem, r0, r1, r2, r3, r4]) rfl ?_
    refine ⟨?_, ?_⟩
    · rw [WAns, HRs.out]
      exact ⟨_, rfl, b, X.length, cb, b', Y.length, cb', va, un, vc, l', rfl, (((((HSt.out.setLow (by omega) _).setLow (by omega) _).setLow (by omega) _).setLow (by omega) _).setLow (by omega) _).low (by omega), HM.out⟩
    · exact ((((HBw.out.setCell (by dsimp only; omega) _).setCell (by dsimp only; omega) _).setCell (by dsimp only; omega) _).setCell (by dsimp only; omega) _).setCell (by dsimp only; omega) _
  rw [decide_eq_true hwant]
  have hsn := HSo.out.nums
  obtain ⟨hen, hn0, hnX, hX200⟩ := hsn
  have hfew : un ≤ 10 := by have := HSo.out.few; rw [List.length_map, ← HL.out.1] at this; exact this
  obtain ⟨d0, d1, d2, d3, d4⟩ := (show _ ∧ _ ∧ _ ∧ _ ∧ _ from ⟨(HQ.out _ HC2.out).1.cell 0 rfl, (HQ.out _ HC2.out).1.cell 1 rfl, (HQ.out _ HC2.out).1.cell 2 rfl, (HQ.out _ HC2.out).1.cell 3 rfl, (HQ.out _ HC2.out).1.cell 4 rfl⟩)
  go_wp2_with fail
  refine (specAtU_any ua un uc lo id l y2 (HX.out _ HC2.out).2.2 HL.out.1 (by omega)).mono ?_
  rintro _ y2 ⟨rfl, rfl⟩
  clear d0 d1 d2 d3 d4
  cases hat : atU (l.map UE.u) id with
  | some k =>
    have hki : atI (l.map UE.u) id = (k : Int) := by rw [atI, hat]
    have hk0 : (0 : Int) ≤ (k : Int) := by omega
    rw [hki]
    have HRs : Hid (makeA X Y ep nx (l.map UE.u) id want = ⟨X, nx, l.map UE.u, 3⟩) := by show _ = _; rw [makeA, if_pos ⟨HDb.out, HId.out, hwant⟩, hat, if_neg (by simp)]
    have HBw : Hid (Below w.heap.size w y2) := HB2.out.trans (HC2.out.mono HB2.out.size)
    obtain ⟨r0, r1, r2, r3, r4⟩ := (show _ ∧ _ ∧ _ ∧ _ ∧ _ from ⟨(HQ.out _ HC2.out).2.cell 0 rfl, (HQ.out _ HC2.out).2.cell 1 rfl, (HQ.out _ HC2.out).2.cell 2 rfl, (HQ.out _ HC2.out).2.cell 3 rfl, (HQ.out _ HC2.out).2.cell 4 rfl⟩)
    obtain ⟨f0, f1, f2, f3, f4⟩ := (show _ ∧ _ ∧ _ ∧ _ ∧ _ from ⟨(HQ.out _ HC2.out).2.frozen 0, (HQ.out _ HC2.out).2.frozen 1, (HQ.out _ HC2.out).2.frozen 2, (HQ.out _ HC2.out).2.frozen 3, (HQ.out _ HC2.out).2.frozen 4⟩)
    obtain ⟨o0, o1, o2, o3, o4⟩ := (show _ ∧ _ ∧ _ ∧ _ ∧ _ from ⟨HA2.out.box.cell 0 rfl, HA2.out.box.cell 1 rfl, HA2.out.box.cell 2 rfl, HA2.out.box.cell 3 rfl, HA2.out.box.cell 4 rfl⟩)
    have HSt : Hid (StoAt y2 W2.heap.size b X.length cb X b' Y.length cb' Y va un vc l') := HA2.out.sto
    clear HQ HX HC2 HA2
    go_wp2_with fail
    refine bodyPost_ret (v := .tuple #[.agg #[.slice b X.length cb, .slice b' Y.length cb', .int .i64 ep, .int .i64 nx, .slice va un vc], .int .i64 3]) (by simp [results, Tryz.f83, go_sem, r0, r1, r2, r3, r4]) rfl ?_
    refine ⟨?_, ?_⟩
    · rw [WAns, HRs.out]
      exact ⟨_, rfl, b, X.length, cb, b', Y.length, cb', va, un, vc, l', rfl, (((((HSt.out.setLow (by omega) _).setLow (by omega) _).setLow (by omega) _).setLow (by omega) _).setLow (by omega) _).low (by omega), HM.out⟩
    · exact ((((HBw.out.setCell (by dsimp only; omega) _).setCell (by dsimp only; omega) _).setCell (by dsimp only; omega) _).setCell (by dsimp only; omega) _).setCell (by dsimp only; omega) _
  | none =>
  have hki : atI (l.map UE.u) id = -1 := by rw [atI, hat]
  rw [hki]
  obtain ⟨d0, d1, d2, d3, d4⟩ := (show _ ∧ _ ∧ _ ∧ _ ∧ _ from ⟨(HQ.out _ HC2.out).1.cell 0 rfl, (HQ.out _ HC2.out).1.cell 1 rfl, (HQ.out _ HC2.out).1.cell 2 rfl, (HQ.out _ HC2.out).1.cell 3 rfl, (HQ.out _ HC2.out).1.cell 4 rfl⟩)
  go_wp2_with fail
  refine (specLeft_any a n ca a' n' ca' ep nx ua un uc y2 (by omega) (by omega)).mono ?_
  rintro _ y3 ⟨rfl, hb3⟩
  clear d0 d1 d2 d3 d4
  have HA3 : Hid (SAt y3 W2.heap.size bo b X.length cb X b' Y.length cb' Y ep nx va un vc l') := HA2.out.stays hb3
  have HC3 : Hid (Below W2.heap.size W2 y3) := HC2.out.trans (hb3.mono HC2.out.size)
  clear hb3 HA2 HC2
  by_cases hroom : (n : Int) - nx < 1
  · have hrn : ¬ nx < (X.length : Int) := by have := HL.out.2.2.2; omega
    have HRs : Hid (makeA X Y ep nx (l.map UE.u) id want = ⟨X, nx, l.map UE.u, 5⟩) := by show _ = _; rw [makeA, if_pos ⟨HDb.out, HId.out, hwant⟩, hat, if_pos rfl, if_neg (fun h => hrn h.1)]
    have HBw : Hid (Below w.heap.size w y3) := HB2.out.trans (HC3.out.mono HB2.out.size)
    obtain ⟨r0, r1, r2, r3, r4⟩ := (show _ ∧ _ ∧ _ ∧ _ ∧ _ from ⟨(HQ.out _ HC3.out).2.cell 0 rfl, (HQ.out _ HC3.out).2.cell 1 rfl, (HQ.out _ HC3.out).2.cell 2 rfl, (HQ.out _ HC3.out).2.cell 3 rfl, (HQ.out _ HC3.out).2.cell 4 rfl⟩)
    obtain ⟨f0, f1, f2, f3, f4⟩ := (show _ ∧ _ ∧ _ ∧ _ ∧ _ from ⟨(HQ.out _ HC3.out).2.frozen 0, (HQ.out _ HC3.out).2.frozen 1, (HQ.out _ HC3.out).2.frozen 2, (HQ.out _ HC3.out).2.frozen 3, (HQ.out _ HC3.out).2.frozen 4⟩)
    obtain ⟨o0, o1, o2, o3, o4⟩ := (show _ ∧ _ ∧ _ ∧ _ ∧ _ from ⟨HA3.out.box.cell 0 rfl, HA3.out.box.cell 1 rfl, HA3.out.box.cell 2 rfl, HA3.out.box.cell 3 rfl, HA3.out.box.cell 4 rfl⟩)
    have HSt : Hid (StoAt y3 W2.heap.size b X.length cb X b' Y.length cb' Y va un vc l') := HA3.out.sto
    clear HQ HX HC3 HA3
    go_wp2_with fail
    refine bodyPost_ret (v := .tuple #[.agg #[.slice b X.length cb, .slice b' Y.length cb', .int .i64 ep, .int .i64 nx, .slice va un vc], .int .i64 5]) (by simp [results, Tryz.f83, go_sem, r0, r1, r2, r3, r4]) rfl ?_
    refine ⟨?_, ?_⟩
    · rw [WAns, HRs.out]
      exact ⟨_, rfl, b, X.length, cb, b', Y.length, cb', va, un, vc, l', rfl, (((((HSt.out.setLow (by omega) _).setLow (by omega) _).setLow (by omega) _).setLow (by omega) _).setLow (by omega) _).low (by omega), HM.out⟩
    · exact ((((HBw.out.setCell (by dsimp only; omega) _).setCell (by dsimp only; omega) _).setCell (by dsimp only; omega) _).setCell (by dsimp only; omega) _).setCell (by dsimp only; omega) _
  obtain ⟨d0, d1, d2, d3, d4⟩ := (show _ ∧ _ ∧ _ ∧ _ ∧ _ from ⟨(HQ.out _ HC3.out).1.cell 0 rfl, (HQ.out _ HC3.out).1.cell 1 rfl, (HQ.out _ HC3.out).1.cell 2 rfl, (HQ.out _ HC3.out).1.cell 3 rfl, (HQ.out _ HC3.out).1.cell 4 rfl⟩)
  by_cases hten : un = 10
  · have htn : (l.map UE.u).length = 10 := by rw [List.length_map, ← HL.out.1]; exact hten
    have hti : ((un : Int) == 10) = true := by rw [hten]; rfl
    clear hten
    have HRs : Hid (makeA X Y ep nx (l.map UE.u) id want = ⟨X, nx, l.map UE.u, 5⟩) := by show _ = _; rw [makeA, if_pos ⟨HDb.out, HId.out, hwant⟩, hat, if_pos rfl, if_neg (fun h => h.2 htn)]
    have HBw : Hid (Below w.heap.size w y3) := HB2.out.trans (HC3.out.mono HB2.out.size)
    obtain ⟨r0, r1, r2, r3, r4⟩ := (show _ ∧ _ ∧ _ ∧ _ ∧ _ from ⟨(HQ.out _ HC3.out).2.cell 0 rfl, (HQ.out _ HC3.out).2.cell 1 rfl, (HQ.out _ HC3.out).2.cell 2 rfl, (HQ.out _ HC3.out).2.cell 3 rfl, (HQ.out _ HC3.out).2.cell 4 rfl⟩)
    obtain ⟨f0, f1, f2, f3, f4⟩ := (show _ ∧ _ ∧ _ ∧ _ ∧ _ from ⟨(HQ.out _ HC3.out).2.frozen 0, (HQ.out _ HC3.out).2.frozen 1, (HQ.out _ HC3.out).2.frozen 2, (HQ.out _ HC3.out).2.frozen 3, (HQ.out _ HC3.out).2.frozen 4⟩)
    obtain ⟨o0, o1, o2, o3, o4⟩ := (show _ ∧ _ ∧ _ ∧ _ ∧ _ from ⟨HA3.out.box.cell 0 rfl, HA3.out.box.cell 1 rfl, HA3.out.box.cell 2 rfl, HA3.out.box.cell 3 rfl, HA3.out.box.cell 4 rfl⟩)
    have HSt : Hid (StoAt y3 W2.heap.size b X.length cb X b' Y.length cb' Y va un vc l') := HA3.out.sto
    clear HQ HX HC3 HA3
    go_wp2_with fail
    refine bodyPost_ret (v := .tuple #[.agg #[.slice b X.length cb, .slice b' Y.length cb', .int .i64 ep, .int .i64 nx, .slice va un vc], .int .i64 5]) (by simp [results, Tryz.f83, go_sem, r0, r1, r2, r3, r4]) rfl ?_
    refine ⟨?_, ?_⟩
    · rw [WAns, HRs.out]
      exact ⟨_, rfl, b, X.length, cb, b', Y.length, cb', va, un, vc, l', rfl, (((((HSt.out.setLow (by omega) _).setLow (by omega) _).setLow (by omega) _).setLow (by omega) _).setLow (by omega) _).low (by omega), HM.out⟩
    · exact ((((HBw.out.setCell (by dsimp only; omega) _).setCell (by dsimp only; omega) _).setCell (by dsimp only; omega) _).setCell (by dsimp only; omega) _).setCell (by dsimp only; omega) _
  have hti : ((un : Int) == 10) = false := by simpa using (show ¬ (un : Int) = 10 by omega)
  have htn : (l.map UE.u).length ≠ 10 := by rw [List.length_map, ← HL.out.1]; exact hten
  have ho1 := make_fits (want := want) hat HSo.out.few htn
  obtain ⟨M, hM⟩ := Int.eq_ofNat_of_zero_le hn0
  obtain ⟨E, hE⟩ := Int.eq_ofNat_of_zero_le hen.1
  subst hM hE
  have hMl : M < X.length := by have := HL.out.2.2.2; omega
  obtain ⟨V, hV⟩ := Int.eq_ofNat_of_zero_le hwant.1
  subst hV
  have HRs : Hid (makeA X Y (E : Int) (M : Int) (l.map UE.u) id (V : Int) = ⟨X.set M (txU (sumB (recB E M 1 id V []))), (M : Int) + 1, (makeU (l.map UE.u) ⟨id, (V : Int), [], false⟩), 0⟩) := by
    show _ = _
    rw [makeA, if_pos ⟨HDb.out, HId.out, hwant⟩, hat, if_pos rfl, if_pos ⟨by omega, htn⟩]
    show wroteA X (E : Int) (M : Int) (l.map UE.u) [makeR id (V : Int)] = _
    have hf : [makeR id (V : Int)].foldlM oneU (l.map UE.u) = some (makeU (l.map UE.u) ⟨id, (V : Int), [], false⟩) := by rw [List.foldlM_cons, ho1]; rfl
    rw [wroteA, hf]
    rfl
  have hsq : HA3.out.box = HA3.out.box := rfl
  have hi8 : id.size ≤ 255 := by
    have h := HId.out
    simp only [idB, Bool.and_eq_true, decide_eq_true_eq, Array.length_toList] at h
    have h8 : id.data.size = id.size := rfl
    omega
  have HWr : Hid (Calls Tryz.prog 106 #[.pointer (some ⟨bo, 0, none⟩), .agg #[.int .i64 0, .int .i64 0, .int .i64 1, .string id, .int .i64 (V : Int), .slice none 0 0]] y3 fun e w' => e = .returned (.tuple #[]) ∧ (∃ ua' un' uc' l2, BoxN w' bo 29 [.slice b X.length cb, .slice b' Y.length cb', .int .i64 (E : Int), .int .i64 ((M : Int) + 1), .slice ua' un' uc'] ∧ StoAt w' W2.heap.size b X.length cb (X.set M (txU (sumB (recB E M 1 id V [])))) b' Y.length cb' Y ua' un' uc' l2 ∧ l2.map UE.u = (makeU (l.map UE.u) ⟨id, (V : Int), [], false⟩)) ∧ Below W2.heap.size y3 w') :=
    specWrite_any W2.heap.size bo b cb X b' Y.length cb' Y E M va un vc l' 0 0 1 id V none 0 0 [] (makeU (l.map UE.u) ⟨id, (V : Int), [], false⟩) y3 HA3.out.box HA3.out.sto hlo 0 (owns_nil _ _) hMl (by omega) (by omega) HZ'.out hi8 (by omega) (by omega) (by omega) (by omega) (by rw [HM.out]; exact ho1)
  go_wp2_with fail
  refine HWr.out.mono ?_
  rintro _ y4 ⟨rfl, ⟨ua', un', uc', l2, hq4, hs4, hm4⟩, hb4⟩
  have HC4 : Hid (Below W2.heap.size W2 y4) := HC3.out.trans hb4
  have HBw : Hid (Below w.heap.size w y4) := HB2.out.trans (HC4.out.mono HB2.out.size)
  obtain ⟨r0, r1, r2, r3, r4⟩ := (show _ ∧ _ ∧ _ ∧ _ ∧ _ from ⟨(HQ.out _ HC4.out).2.cell 0 rfl, (HQ.out _ HC4.out).2.cell 1 rfl, (HQ.out _ HC4.out).2.cell 2 rfl, (HQ.out _ HC4.out).2.cell 3 rfl, (HQ.out _ HC4.out).2.cell 4 rfl⟩)
  obtain ⟨f0, f1, f2, f3, f4⟩ := (show _ ∧ _ ∧ _ ∧ _ ∧ _ from ⟨(HQ.out _ HC4.out).2.frozen 0, (HQ.out _ HC4.out).2.frozen 1, (HQ.out _ HC4.out).2.frozen 2, (HQ.out _ HC4.out).2.frozen 3, (HQ.out _ HC4.out).2.frozen 4⟩)
  obtain ⟨o0, o1, o2, o3, o4⟩ := (show _ ∧ _ ∧ _ ∧ _ ∧ _ from ⟨hq4.cell 0 rfl, hq4.cell 1 rfl, hq4.cell 2 rfl, hq4.cell 3 rfl, hq4.cell 4 rfl⟩)
  have HSt : Hid (StoAt y4 W2.heap.size b X.length cb (X.set M (txU (sumB (recB E M 1 id V [])))) b' Y.length cb' Y ua' un' uc' l2 ∧ l2.map UE.u = (makeU (l.map UE.u) ⟨id, (V : Int), [], false⟩)) := ⟨hs4, hm4⟩
  clear HQ HX HC3 HA3 HC4 hq4 hs4 hm4 hb4 HWr
  go_wp2_with fail
  refine bodyPost_ret (v := .tuple #[.agg #[.slice b X.length cb, .slice b' Y.length cb', .int .i64 (E : Int), .int .i64 ((M : Int) + 1), .slice ua' un' uc'], .int .i64 0]) (by simp [results, Tryz.f83, go_sem, r0, r1, r2, r3, r4]) rfl ?_
  refine ⟨?_, ?_⟩
  · rw [WAns, HRs.out]
    exact ⟨_, rfl, b, X.length, cb, b', Y.length, cb', ua', un', uc', l2, rfl, (((((HSt.out.1.setLow (by omega) _).setLow (by omega) _).setLow (by omega) _).setLow (by omega) _).setLow (by omega) _).low (by omega), HSt.out.2⟩
  · exact ((((HBw.out.setCell (by dsimp only; omega) _).setCell (by dsimp only; omega) _).setCell (by dsimp only; omega) _).setCell (by dsimp only; omega) _).setCell (by dsimp only; omega) _

end Go.Proofs.YtlkgopoicpnacaaGreatDoor
