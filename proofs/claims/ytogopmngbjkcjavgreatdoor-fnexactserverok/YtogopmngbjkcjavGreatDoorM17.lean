/- What GetRec answers of a text; no program in it. What the program's GetRec answers, under its table. The greatest epoch of texts; the records ahead that follow each other; no program in it. The records ahead, one behind the other; no program in it. A record more in a row. No statement of the program but its table of types. -/
import Derived.Test.YtogopmngbjkcjavGreatDoorM04
import Derived.Test.YtogopmngbjkcjavGreatDoorM06
import Derived.Test.YtogopmngbjkcjavGreatDoorM14
import Derived.Test.YtogopmngbjkcjavGreatDoorM16
import Derived.Test.YtogopmngbjkcjavGreatDoorM16
import Derived.Test.YtogopmngbjkcjavGreatDoorM07
import Derived.Lib.ConvBytes
import Derived.Lib.Strings
import Derived.Lib.AtoiErrMem
import Derived.Test.YtogopmngbjkcjavGreatDoorM11
namespace Go.Proofs.YtogopmngbjkcjavGreatDoor
open Go.RowKit
set_option linter.unusedVariables false

/-- What GetRec answers. -/
def GotR (base : Nat) (s : ByteArray) (v : Value) (w' : World) : Prop :=
  (recOf s = none ∧ v = .tuple #[.agg #[.int .i64 0, .int .i64 0, .int .i64 0, .string ⟨#[]⟩, .int .i64 0, .slice none 0 0], .bool false]) ∨
  ∃ r A C, recOf s = some r ∧ v = .tuple #[.agg #[.int .i64 r.e, .int .i64 r.q, .int .i64 r.k, .string r.id, .int .i64 r.n, .slice A r.zs.length C], .bool true] ∧ Owns w' base A r.zs.length C r.zs

/-- The record that is answered, and whether there is one. -/
def gotV (s : ByteArray) : R × Bool := match recOf s with
  | none => (⟨0, 0, 0, ⟨#[]⟩, 0, []⟩, false)
  | some r => (r, true)

theorem GotR.one {base : Nat} {s : ByteArray} {v : Value} {w' : World} (h : GotR base s v w') : ∃ A C, v = .tuple #[.agg #[.int .i64 (gotV s).1.e, .int .i64 (gotV s).1.q, .int .i64 (gotV s).1.k, .string (gotV s).1.id, .int .i64 (gotV s).1.n, .slice A (gotV s).1.zs.length C], .bool (gotV s).2] ∧ Owns w' base A (gotV s).1.zs.length C (gotV s).1.zs := by
  rcases h with ⟨h1, rfl⟩ | ⟨r, A, C, h1, rfl, ho⟩
  · rw [gotV, h1]
    exact ⟨none, 0, rfl, ⟨⟨rfl, .inl ⟨rfl, rfl⟩⟩, by simp⟩⟩
  · rw [gotV, h1]
    exact ⟨A, C, rfl, ho⟩

theorem gotV_len (s : ByteArray) : (gotV s).1.zs.length ≤ 24 := by
  cases h : recOf s with
  | none => rw [gotV, h]; exact Nat.zero_le _
  | some r =>
    rw [gotV, h]
    exact (okRec_iff (recOf_iff.1 h).1).2.2.2.2.2

/-- A record in a variable of the law's, its bytes in memory of its own from lo on and ahead of it. -/
def RB (W : World) (b lo : Nat) (r : R) (A : Option Addr) (d C : Nat) (zs : List Int) : Prop :=
  BoxN W b 106 [.int .i64 r.e, .int .i64 r.q, .int .i64 r.k, .string r.id, .int .i64 r.n, .slice A d C] ∧ Owns W lo A d C zs ∧ (∀ q, A.map (·.block) = some q → q < b) ∧ lo ≤ b

section
variable {W W' : World} {b lo d C : Nat} {r : R} {A : Option Addr} {zs : List Int}

theorem RB.stays (h : RB W b lo r A d C zs) (hb : Below W.heap.size W W') : RB W' b lo r A d C zs := ⟨h.1.stays hb, h.2.1.below hb, h.2.2⟩

theorem RB.new (r : R) (ho : Owns W lo A d C zs) (hlo : lo ≤ W.heap.size) : RB (W.alloc (.cells #[.int .i64 r.e, .int .i64 r.q, .int .i64 r.k, .string r.id, .int .i64 r.n, .slice A d C] 106)) W.heap.size lo r A d C zs :=
  ⟨BoxN.new _ _ _, ho.below ((Below.refl _ _).alloc (Nat.le_refl _) _), fun q e => (ho.lt q e).2, hlo⟩

theorem RB.grown {x : Option Nat} (h : RB W b lo r A d C zs) (hg : W.grownBy W' x) (hx : ∀ q, x = some q → q < lo ∨ b < q) : RB W' b lo r A d C zs := by
  refine ⟨h.1.grown hg (fun e => by have := hx _ e; have := h.2.2.2; omega), h.2.1.grown hg (fun q e e2 => ?_), h.2.2⟩
  have h1 := hx q e
  have h2 := (h.2.1.lt q e2).1
  have h3 := h.2.2.1 q e2
  omega

theorem RB.marked {zs' : List Int} (h : RB W b lo r A d C zs) (ho : Owns W' lo A d C zs') (hg : W.grownBy W' (A.map (·.block))) : RB W' b lo r A d C zs' :=
  ⟨h.1.grown hg (fun e => by have := h.2.2.1 _ e; omega), ho, h.2.2⟩
end

end Go.Proofs.YtogopmngbjkcjavGreatDoor

namespace Go.Proofs.YtogopmngbjkcjavGreatDoor
open Go.RowKit
set_option linter.unusedVariables false

theorem seg_bytesI (w1 : World) (s : ByteArray) : Seg (Lib.bytesWorld w1 5 s) (some ⟨w1.heap.size, 0, none⟩) s.size (txI s) := by
  refine ⟨txI_len s, txI_range s, .inr ⟨w1.heap.size, 0, rfl, by rw [Lib.bytesWorld_size]; omega, fun i hi => ?_⟩⟩
  rw [Nat.zero_add, Lib.bytesWorld_cell w1 5 s i hi]
  have h3 : i < s.data.size := hi
  simp only [txI, List.getD_eq_getElem?_getD, List.getElem?_map, Array.getElem?_toList]
  rw [Array.getElem?_eq_getElem h3]
  rfl

theorem loose_len (l : List Int) (hr : ∀ x ∈ l, 0 ≤ x ∧ x ≤ 255) : (looseR l).id.size ≤ 255 ∧ (looseR l).zs.length ≤ 255 := by
  rw [looseR]
  dsimp only
  rw [txU_size, shortL_len, shortL_len]
  have h1 := (shortN_is l hr 6).2
  have h2 := (shortN_is l hr (11 + shortN l 6)).2
  constructor <;> split <;> omega

theorem putT_okI {r : R} (h : r.ok = true) : putT r.e r.q r.k r.id r.n r.zs = txU r.put := by rw [putT, show okRec r.e r.q r.k r.id r.n r.zs.length = true from h]; rfl

theorem putT_size (r : R) : (putT r.e r.q r.k r.id r.n r.zs).size ≤ 48 := by
  rw [putT]
  split
  · rename_i h
    obtain ⟨_, _, _, hi, _, hd⟩ := okRec_iff h
    rw [txU_size]
    have := put_len r
    rw [R.put, R.body] at this
    omega
  · exact Nat.zero_le _

set_option maxRecDepth 10000 in
set_option maxHeartbeats 3200000 in
theorem implGetR_any (s : ByteArray) (w : World) (hs : s.size ≤ 1099511627776) (ht : RecT w) :
    Calls Tryz.prog 121 #[.string s] w fun e w' => (∃ v, e = .returned v ∧ GotR w.heap.size s v w') ∧ Below w.heap.size w w' := by
  obtain ⟨w1, hw1⟩ : ∃ w1, w.alloc (.cells #[.int .i64 0, .int .i64 0, .int .i64 0, .string ⟨#[]⟩, .int .i64 0, .slice none 0 0] 106) = w1 := ⟨_, rfl⟩
  have HE : Hid (w.alloc (.cells #[.int .i64 0, .int .i64 0, .int .i64 0, .string ⟨#[]⟩, .int .i64 0, .slice none 0 0] 106) = w1) := hw1
  have HQ1 : Hid (BoxN w1 w.heap.size 106 [.int .i64 0, .int .i64 0, .int .i64 0, .string ⟨#[]⟩, .int .i64 0, .slice none 0 0]) := by show BoxN _ _ _ _; rw [← hw1]; exact BoxN.new _ _ _
  have HB1 : Hid (Below w.heap.size w w1) := by show Below _ _ _; rw [← hw1]; exact (Below.refl _ _).alloc (Nat.le_refl _) _
  have HT1 : Hid (RecT w1) := ht.below HB1.out
  clear hw1 ht
  go_enter Tryz.func121, Tryz.ntmps121
  go_upto_region 1 with fail
  rw [HE.out]
  clear HE
  by_cases hlen : 48 < s.size
  · have hli : (48 : Int) < (s.size : Int) := by omega
    have HX : Hid (recOf s = none) := recOf_long hlen
    have HQz : Hid (BoxN w1 w.heap.size 106 [.int .i64 0, .int .i64 0, .int .i64 0, .string ⟨#[]⟩, .int .i64 0, .slice none 0 0]) := HQ1.out
    have HBz : Hid (Below w.heap.size w w1) := HB1.out
    obtain ⟨r0, r1, r2, r3, r4, r5⟩ := (show _ ∧ _ ∧ _ ∧ _ ∧ _ ∧ _ from ⟨HQz.out.cell 0 rfl, HQz.out.cell 1 rfl, HQz.out.cell 2 rfl, HQz.out.cell 3 rfl, HQz.out.cell 4 rfl, HQz.out.cell 5 rfl⟩)
    have f0 := HQz.out.frozen 0
    have f1 := HQz.out.frozen 1
    have f2 := HQz.out.frozen 2
    have f3 := HQz.out.frozen 3
    have f4 := HQz.out.frozen 4
    have f5 := HQz.out.frozen 5
    go_wp2_with fail
    refine bodyPost_ret (v := .tuple #[.agg #[.int .i64 0, .int .i64 0, .int .i64 0, .string ⟨#[]⟩, .int .i64 0, .slice none 0 0], .bool false]) (by simp [results, Tryz.f121, go_sem, r0, r1, r2, r3, r4, r5]) rfl ?_
    exact ⟨⟨_, rfl, .inl ⟨HX.out, rfl⟩⟩, (((((HBz.out.setCell (Nat.le_refl _) _).setCell (Nat.le_refl _) _).setCell (Nat.le_refl _) _).setCell (Nat.le_refl _) _).setCell (Nat.le_refl _) _).setCell (Nat.le_refl _) _⟩
  have hli : ¬ (48 : Int) < (s.size : Int) := by omega
  have hl48 : s.size ≤ 48 := by omega
  have hcv := Lib.run_convert_string_bytes (P := Tryz.prog) w1 9 45 5 s (u := .string) Tryz.underlying9 Tryz.underlying45 Tryz.underlying5
  have hbw : Below w1.heap.size w1 (Lib.bytesWorld w1 5 s) := Lib.bytesWorld_below w1 5 s
  have hsg := seg_bytesI w1 s
  have hcp : s.size ≤ grownCap w1 s.size 0 5 := grownCap_ge w1 s.size 0 5
  obtain ⟨W2, hW2⟩ : ∃ W2, Lib.bytesWorld w1 5 s = W2 := ⟨_, rfl⟩
  obtain ⟨cp, hcpe⟩ : ∃ cp, grownCap w1 s.size 0 5 = cp := ⟨_, rfl⟩
  rw [hW2] at hcv hbw hsg
  rw [hcpe] at hcv hcp
  clear hW2 hcpe
  have HB2 : Hid (Below w.heap.size w W2) := HB1.out.trans (hbw.mono HB1.out.size)
  have HQ2 : Hid (BoxN W2 w.heap.size 106 [.int .i64 0, .int .i64 0, .int .i64 0, .string ⟨#[]⟩, .int .i64 0, .slice none 0 0]) := HQ1.out.stays hbw
  have HT2 : Hid (RecT W2) := HT1.out.below hbw
  have HS2 : Hid (Seg W2 (some ⟨w1.heap.size, 0, none⟩) s.size (txI s)) := hsg
  clear hbw hsg hlen
  go_wp2_with fail
  refine (recOfI_any (some ⟨w1.heap.size, 0, none⟩) s.size cp (txI s) W2 HS2.out hcp hl48).mono ?_
  rintro e W3 ⟨⟨A, C, rfl, ho3⟩, hb3⟩
  clear hcv
  have HG1 : Hid ((looseR (txI s)).ok = true → (looseR (txI s)).put = txI s → recOf s = some (looseR (txI s))) := loose_some
  have HG2 : Hid (¬ ((looseR (txI s)).ok = true ∧ (looseR (txI s)).put = txI s) → recOf s = none) := loose_none
  obtain ⟨hid, hzs⟩ := loose_len (txI s) (txI_range s)
  generalize looseR (txI s) = r at *
  have hb4 := (Below.refl W3.heap.size W3).alloc (Nat.le_refl _) (.cells #[.int .i64 r.e, .int .i64 r.q, .int .i64 r.k, .string r.id, .int .i64 r.n, .slice A r.zs.length C] 106)
  have HB4 : Hid (Below w.heap.size w (W3.alloc (.cells #[.int .i64 r.e, .int .i64 r.q, .int .i64 r.k, .string r.id, .int .i64 r.n, .slice A r.zs.length C] 106))) := HB2.out.trans ((hb3.trans (hb4.mono hb3.size)).mono HB2.out.size)
  have HQ4 : Hid (BoxN (W3.alloc (.cells #[.int .i64 r.e, .int .i64 r.q, .int .i64 r.k, .string r.id, .int .i64 r.n, .slice A r.zs.length C] 106)) w.heap.size 106 [.int .i64 0, .int .i64 0, .int .i64 0, .string ⟨#[]⟩, .int .i64 0, .slice none 0 0]) := (HQ2.out.stays hb3).stays hb4
  have HT4 : Hid (RecT (W3.alloc (.cells #[.int .i64 r.e, .int .i64 r.q, .int .i64 r.k, .string r.id, .int .i64 r.n, .slice A r.zs.length C] 106))) := (HT2.out.below hb3).below hb4
  have HO4 : Hid (Owns (W3.alloc (.cells #[.int .i64 r.e, .int .i64 r.q, .int .i64 r.k, .string r.id, .int .i64 r.n, .slice A r.zs.length C] 106)) W2.heap.size A r.zs.length C r.zs) := ho3.below hb4
  have HR4 : Hid (BoxN (W3.alloc (.cells #[.int .i64 r.e, .int .i64 r.q, .int .i64 r.k, .string r.id, .int .i64 r.n, .slice A r.zs.length C] 106)) W3.heap.size 106 [.int .i64 r.e, .int .i64 r.q, .int .i64 r.k, .string r.id, .int .i64 r.n, .slice A r.zs.length C]) := BoxN.new _ _ _
  have HW2 : Hid (w.heap.size + 1 ≤ W2.heap.size) := HQ2.out.lt
  clear hb3 hb4 ho3
  go_upto_region 4 with fail
  obtain ⟨W4, hW4⟩ : ∃ W4, W3.alloc (.cells #[.int .i64 r.e, .int .i64 r.q, .int .i64 r.k, .string r.id, .int .i64 r.n, .slice A r.zs.length C] 106) = W4 := ⟨_, rfl⟩
  rw [hW4] at HB4 HQ4 HT4 HO4 HR4 ⊢
  clear hW4
  generalize W3.heap.size = rr at *
  have hrl : rr < W4.heap.size := HR4.out.lt
  have x0 : ∀ P : Past W4, P.world.cell? ⟨rr, 0, none⟩ = some (.int .i64 r.e) := fun P => P.cell hrl (HR4.out.cell 0 rfl)
  have x1 : ∀ P : Past W4, P.world.cell? ⟨rr, 1, none⟩ = some (.int .i64 r.q) := fun P => P.cell hrl (HR4.out.cell 1 rfl)
  have x2 : ∀ P : Past W4, P.world.cell? ⟨rr, 2, none⟩ = some (.int .i64 r.k) := fun P => P.cell hrl (HR4.out.cell 2 rfl)
  have x3 : ∀ P : Past W4, P.world.cell? ⟨rr, 3, none⟩ = some (.string r.id) := fun P => P.cell hrl (HR4.out.cell 3 rfl)
  have x4 : ∀ P : Past W4, P.world.cell? ⟨rr, 4, none⟩ = some (.int .i64 r.n) := fun P => P.cell hrl (HR4.out.cell 4 rfl)
  have x5 : ∀ P : Past W4, P.world.cell? ⟨rr, 5, none⟩ = some (.slice A r.zs.length C) := fun P => P.cell hrl (HR4.out.cell 5 rfl)
  have HRok : Hid (∀ P : Past W4, Calls Tryz.prog 152 #[.agg #[.int .i64 r.e, .int .i64 r.q, .int .i64 r.k, .string r.id, .int .i64 r.n, .slice A r.zs.length C]] P.world fun e w' => e = .returned (.bool r.ok) ∧ Below P.world.heap.size P.world w') := fun P => implRok_any _ _ _ _ _ _ _ _ _ (by unfold maxLen; omega) (by omega) (HT4.out.below P.below)
  have HTx : Hid (∀ P : Past W4, Calls Tryz.prog 153 #[.string s] P.world fun e w' => e = .returned (.agg (rtV s)) ∧ Below P.world.heap.size P.world w') := fun P => recText_any s _ hl48
  have HPt : Hid (∀ P : Past W4, Calls Tryz.prog 154 #[.agg #[.int .i64 r.e, .int .i64 r.q, .int .i64 r.k, .string r.id, .int .i64 r.n, .slice A r.zs.length C]] P.world fun e w' => e = .returned (.string (putT r.e r.q r.k r.id r.n r.zs)) ∧ Below P.world.heap.size P.world w') := fun P => implPutR_any _ _ _ _ _ _ _ _ r.zs _ (HO4.out.seg.below P.below) (by unfold maxLen; omega) (by omega) (HT4.out.below P.below)
  have HTy : Hid (∀ P : Past W4, Calls Tryz.prog 153 #[.string (putT r.e r.q r.k r.id r.n r.zs)] P.world fun e w' => e = .returned (.agg (rtV (putT r.e r.q r.k r.id r.n r.zs))) ∧ Below P.world.heap.size P.world w') := fun P => recText_any _ _ (putT_size r)
  have hnq : ∀ P : Past W4, (Op.equalIn 10000 186 (.agg (rtV s)) (.agg (rtV (putT r.e r.q r.k r.id r.n r.zs)))).run Tryz.prog P.world = .ok (decide (s = putT r.e r.q r.k r.id r.n r.zs)) P.world := fun P => rt_eq s _ hl48 (putT_size r) _
  have hne := past_some W4
  have HSame : Hid (r.ok = true → putT r.e r.q r.k r.id r.n r.zs = txU r.put) := putT_okI
  have HRng : Hid (txI (txU r.put) = r.put) := txI_txU _ (sumB_range _ (recB_range _ _ _ _ _ _ HO4.out.2))
  generalize putT r.e r.q r.k r.id r.n r.zs = tt at *
  generalize rtV s = V1 at *
  generalize rtV tt = V2 at *
  cases hok : r.ok
  · rw [hok] at HRok
    have HX : Hid (recOf s = none) := HG2.out (fun h => by rw [hok] at h; cases h.1)
    clear hok HG1 HG2 HSame HRng
    refine wp_region_pastO (by kernel_rfl) (by kernel_rfl) fun ops HO => ?_
    iterate 4 (quiet_step ((first
      | (go_at_call 152; with_reducible exact calls_past (HRok.out _))
      | (go_at_call 153; first | with_reducible exact calls_past (HTx.out _) | with_reducible exact calls_past (HTy.out _))
      | (go_at_call 154; with_reducible exact calls_past (HPt.out _))
      | fail)))
    iterate 6 (refine quiet_past (by rw [HO.out]; kernel_rfl) ?_)
    repeat (quiet_step ((first
      | (go_at_call 152; with_reducible exact calls_past (HRok.out _))
      | (go_at_call 153; first | with_reducible exact calls_past (HTx.out _) | with_reducible exact calls_past (HTy.out _))
      | (go_at_call 154; with_reducible exact calls_past (HPt.out _))
      | fail)))
    refine wpQuiet_nil ?_
    rintro _ ⟨z, rfl⟩
    have HQz : Hid (BoxN z.world w.heap.size 106 [.int .i64 0, .int .i64 0, .int .i64 0, .string ⟨#[]⟩, .int .i64 0, .slice none 0 0]) := HQ4.out.stays z.below
    have HBz : Hid (Below w.heap.size w z.world) := HB4.out.trans (z.below.mono HB4.out.size)
    clear x0 x1 x2 x3 x4 x5 HRok HTx HPt HTy hnq HQ4 HB4
    obtain ⟨r0, r1, r2, r3, r4, r5⟩ := (show _ ∧ _ ∧ _ ∧ _ ∧ _ ∧ _ from ⟨HQz.out.cell 0 rfl, HQz.out.cell 1 rfl, HQz.out.cell 2 rfl, HQz.out.cell 3 rfl, HQz.out.cell 4 rfl, HQz.out.cell 5 rfl⟩)
    have f0 := HQz.out.frozen 0
    have f1 := HQz.out.frozen 1
    have f2 := HQz.out.frozen 2
    have f3 := HQz.out.frozen 3
    have f4 := HQz.out.frozen 4
    have f5 := HQz.out.frozen 5
    go_wp2_with fail
    refine bodyPost_ret (v := .tuple #[.agg #[.int .i64 0, .int .i64 0, .int .i64 0, .string ⟨#[]⟩, .int .i64 0, .slice none 0 0], .bool false]) (by simp [results, Tryz.f121, go_sem, r0, r1, r2, r3, r4, r5]) rfl ?_
    exact ⟨⟨_, rfl, .inl ⟨HX.out, rfl⟩⟩, (((((HBz.out.setCell (Nat.le_refl _) _).setCell (Nat.le_refl _) _).setCell (Nat.le_refl _) _).setCell (Nat.le_refl _) _).setCell (Nat.le_refl _) _).setCell (Nat.le_refl _) _⟩
  rw [hok] at HRok
  have HTt : Hid (txI tt = r.put) := by show _ = _; rw [HSame.out hok, HRng.out]
  by_cases hst : s = tt
  case neg =>
    have hd : decide (s = tt) = false := decide_eq_false hst
    rw [hd] at hnq
    have HX : Hid (recOf s = none) := HG2.out (fun h => hst (txI_inj (by rw [HTt.out, h.2])))
    clear hok HG1 HG2 HSame HRng HTt hst hd
    refine wp_region_pastO (by kernel_rfl) (by kernel_rfl) fun ops HO => ?_
    iterate 4 (quiet_step ((first
      | (go_at_call 152; with_reducible exact calls_past (HRok.out _))
      | (go_at_call 153; first | with_reducible exact calls_past (HTx.out _) | with_reducible exact calls_past (HTy.out _))
      | (go_at_call 154; with_reducible exact calls_past (HPt.out _))
      | fail)))
    iterate 6 (refine quiet_do (by rw [HO.out]; kernel_rfl) (fun K hK => ?_); go_simp; first | (refine hK _ ?_; clear hK K) | (apply Exists.intro; refine ⟨fun _ => ?_, hK _ ?_⟩; (first | (go_at_call 152; with_reducible exact calls_past (HRok.out _)) | (go_at_call 153; first | with_reducible exact calls_past (HTx.out _) | with_reducible exact calls_past (HTy.out _)) | (go_at_call 154; with_reducible exact calls_past (HPt.out _)) | fail); clear hK K))
    repeat (quiet_step ((first
      | (go_at_call 152; with_reducible exact calls_past (HRok.out _))
      | (go_at_call 153; first | with_reducible exact calls_past (HTx.out _) | with_reducible exact calls_past (HTy.out _))
      | (go_at_call 154; with_reducible exact calls_past (HPt.out _))
      | fail)))
    refine wpQuiet_nil ?_
    rintro _ ⟨z, rfl⟩
    have HQz : Hid (BoxN z.world w.heap.size 106 [.int .i64 0, .int .i64 0, .int .i64 0, .string ⟨#[]⟩, .int .i64 0, .slice none 0 0]) := HQ4.out.stays z.below
    have HBz : Hid (Below w.heap.size w z.world) := HB4.out.trans (z.below.mono HB4.out.size)
    clear x0 x1 x2 x3 x4 x5 HRok HTx HPt HTy hnq HQ4 HB4
    obtain ⟨r0, r1, r2, r3, r4, r5⟩ := (show _ ∧ _ ∧ _ ∧ _ ∧ _ ∧ _ from ⟨HQz.out.cell 0 rfl, HQz.out.cell 1 rfl, HQz.out.cell 2 rfl, HQz.out.cell 3 rfl, HQz.out.cell 4 rfl, HQz.out.cell 5 rfl⟩)
    have f0 := HQz.out.frozen 0
    have f1 := HQz.out.frozen 1
    have f2 := HQz.out.frozen 2
    have f3 := HQz.out.frozen 3
    have f4 := HQz.out.frozen 4
    have f5 := HQz.out.frozen 5
    go_wp2_with fail
    refine bodyPost_ret (v := .tuple #[.agg #[.int .i64 0, .int .i64 0, .int .i64 0, .string ⟨#[]⟩, .int .i64 0, .slice none 0 0], .bool false]) (by simp [results, Tryz.f121, go_sem, r0, r1, r2, r3, r4, r5]) rfl ?_
    exact ⟨⟨_, rfl, .inl ⟨HX.out, rfl⟩⟩, (((((HBz.out.setCell (Nat.le_refl _) _).setCell (Nat.le_refl _) _).setCell (Nat.le_refl _) _).setCell (Nat.le_refl _) _).setCell (Nat.le_refl _) _).setCell (Nat.le_refl _) _⟩
  have hd : decide (s = tt) = true := decide_eq_true hst
  rw [hd] at hnq
  have HX : Hid (recOf s = some r) := HG1.out hok (by rw [hst, HTt.out])
  clear hok HG1 HG2 HSame HRng HTt hst hd
  refine wp_region_pastO (by kernel_rfl) (by kernel_rfl) fun ops HO => ?_
  iterate 4 (quiet_step ((first
      | (go_at_call 152; with_reducible exact calls_past (HRok.out _))
      | (go_at_call 153; first | with_reducible exact calls_past (HTx.out _) | with_reducible exact calls_past (HTy.out _))
      | (go_at_call 154; with_reducible exact calls_past (HPt.out _))
      | fail)))
  iterate 6 (refine quiet_do (by rw [HO.out]; kernel_rfl) (fun K hK => ?_); go_simp; first | (refine hK _ ?_; clear hK K) | (apply Exists.intro; refine ⟨fun _ => ?_, hK _ ?_⟩; (first | (go_at_call 152; with_reducible exact calls_past (HRok.out _)) | (go_at_call 153; first | with_reducible exact calls_past (HTx.out _) | with_reducible exact calls_past (HTy.out _)) | (go_at_call 154; with_reducible exact calls_past (HPt.out _)) | fail); clear hK K))
  repeat (quiet_step ((first
      | (go_at_call 152; with_reducible exact calls_past (HRok.out _))
      | (go_at_call 153; first | with_reducible exact calls_past (HTx.out _) | with_reducible exact calls_past (HTy.out _))
      | (go_at_call 154; with_reducible exact calls_past (HPt.out _))
      | fail)))
  refine wpQuiet_nil ?_
  rintro _ ⟨z, rfl⟩
  have HQz : Hid (BoxN z.world w.heap.size 106 [.int .i64 0, .int .i64 0, .int .i64 0, .string ⟨#[]⟩, .int .i64 0, .slice none 0 0]) := HQ4.out.stays z.below
  have HRz : Hid (BoxN z.world rr 106 [.int .i64 r.e, .int .i64 r.q, .int .i64 r.k, .string r.id, .int .i64 r.n, .slice A r.zs.length C]) := HR4.out.stays z.below
  have HBz : Hid (Below w.heap.size w z.world) := HB4.out.trans (z.below.mono HB4.out.size)
  have HOz : Hid (Owns z.world (w.heap.size + 1) A r.zs.length C r.zs) := owns_low (HO4.out.below z.below) HW2.out
  clear x0 x1 x2 x3 x4 x5 HRok HTx HPt HTy hnq HQ4 HB4 HR4 HO4
  have HO9 : Hid (∀ (u0 u1 u2 u3 u4 u5 : Value), Owns ((((((z.world.setCell ⟨w.heap.size, 0, none⟩ u0).setCell ⟨w.heap.size, 1, none⟩ u1).setCell ⟨w.heap.size, 2, none⟩ u2).setCell ⟨w.heap.size, 3, none⟩ u3).setCell ⟨w.heap.size, 4, none⟩ u4).setCell ⟨w.heap.size, 5, none⟩ u5) w.heap.size A r.zs.length C r.zs) := fun u0 u1 u2 u3 u4 u5 => by
    have hA : A.map (·.block) ≠ some w.heap.size := fun e => by have := (HOz.out.lt _ e).1; omega
    exact owns_low (owns_set (owns_set (owns_set (owns_set (owns_set (owns_set HOz.out hA) hA) hA) hA) hA) hA) (by omega)
  obtain ⟨z0, z1, z2, z3, z4, z5⟩ := (show _ ∧ _ ∧ _ ∧ _ ∧ _ ∧ _ from ⟨HRz.out.cell 0 rfl, HRz.out.cell 1 rfl, HRz.out.cell 2 rfl, HRz.out.cell 3 rfl, HRz.out.cell 4 rfl, HRz.out.cell 5 rfl⟩)
  obtain ⟨r0, r1, r2, r3, r4, r5⟩ := (show _ ∧ _ ∧ _ ∧ _ ∧ _ ∧ _ from ⟨HQz.out.cell 0 rfl, HQz.out.cell 1 rfl, HQz.out.cell 2 rfl, HQz.out.cell 3 rfl, HQz.out.cell 4 rfl, HQz.out.cell 5 rfl⟩)
  have f0 := HQz.out.frozen 0
  have f1 := HQz.out.frozen 1
  have f2 := HQz.out.frozen 2
  have f3 := HQz.out.frozen 3
  have f4 := HQz.out.frozen 4
  have f5 := HQz.out.frozen 5
  go_wp2_with fail
  refine bodyPost_ret (v := .tuple #[.agg #[.int .i64 r.e, .int .i64 r.q, .int .i64 r.k, .string r.id, .int .i64 r.n, .slice A r.zs.length C], .bool true]) (by simp [results, Tryz.f121, go_sem, r0, r1, r2, r3, r4, r5]) rfl ?_
  exact ⟨⟨_, rfl, .inr ⟨r, A, C, HX.out, rfl, HO9.out _ _ _ _ _ _⟩⟩, (((((HBz.out.setCell (Nat.le_refl _) _).setCell (Nat.le_refl _) _).setCell (Nat.le_refl _) _).setCell (Nat.le_refl _) _).setCell (Nat.le_refl _) _).setCell (Nat.le_refl _) _⟩

end Go.Proofs.YtogopmngbjkcjavGreatDoor

namespace Go.Proofs.YtogopmngbjkcjavGreatDoor
open Go.RowKit
set_option linter.unusedVariables false

def topStep (m : Int) (s : ByteArray) : Int := match recOf s with
  | none => m
  | some r => if m < r.e then r.e else m

/-- The greatest epoch. -/
def topE (l : List ByteArray) : Int := l.foldl topStep (-1)

theorem topE_step (l : List ByteArray) (k : Nat) (x : ByteArray) (h : l[k]? = some x) : topE (l.take (k + 1)) = topStep (topE (l.take k)) x := by
  rw [List.take_add_one, h]
  simp [topE, List.foldl_append]

theorem topStep_none {m : Int} {s : ByteArray} (h : recOf s = none) : topStep m s = m := by rw [topStep, h]
theorem topStep_some {m : Int} {s : ByteArray} {r : R} (h : recOf s = some r) : topStep m s = if m < r.e then r.e else m := by rw [topStep, h]

/-- Whether the record of a text follows. -/
def nextR (i : Nat) (last : Int) (s : ByteArray) : Option R := match recOf s with
  | none => none
  | some r => if r.q = (i : Int) ∧ last ≤ r.e then some r else none

/-- The records from the i-th on, behind one with this epoch. -/
def scanFrom (i : Nat) (last : Int) : List ByteArray → List R
  | [] => []
  | s :: l => match nextR i last s with
    | none => []
    | some r => r :: scanFrom (i + 1) r.e l

def scanR (l : List ByteArray) : List R := scanFrom 0 0 l

theorem nextR_ok {i : Nat} {last : Int} {s : ByteArray} {r : R} (h : nextR i last s = some r) : recOf s = some r ∧ r.q = (i : Int) ∧ last ≤ r.e := by
  rw [nextR] at h
  split at h
  · cases h
  · rename_i r' hr
    split at h
    · rename_i hc
      injection h with h
      subst h
      exact ⟨hr, hc⟩
    · cases h

end Go.Proofs.YtogopmngbjkcjavGreatDoor

namespace Go.Proofs.YtogopmngbjkcjavGreatDoor
open Go.RowKit
set_option linter.unusedVariables false

theorem scan_next {i : Nat} {last : Int} {xs : List ByteArray} {k : Nat} {x : ByteArray} (h : xs[k]? = some x) : scanFrom i last (xs.drop k) = match nextR i last x with
    | none => []
    | some r => r :: scanFrom (i + 1) r.e (xs.drop (k + 1)) := by
  have hk : k < xs.length := (List.getElem?_eq_some_iff.1 h).1
  obtain ⟨_, hx⟩ := List.getElem?_eq_some_iff.1 h
  rw [List.drop_eq_getElem_cons hk, hx]
  rfl

theorem scan_stop {i : Nat} {last : Int} {xs : List ByteArray} {k : Nat} {x : ByteArray} (h : xs[k]? = some x) (hn : nextR i last x = none) : scanFrom i last (xs.drop k) = [] := by
  rw [scan_next h, hn]

theorem scan_go {i : Nat} {last : Int} {xs : List ByteArray} {k : Nat} {x : ByteArray} {r : R} (h : xs[k]? = some x) (hn : nextR i last x = some r) : scanFrom i last (xs.drop k) = r :: scanFrom (i + 1) r.e (xs.drop (k + 1)) := by
  rw [scan_next h, hn]

end Go.Proofs.YtogopmngbjkcjavGreatDoor

namespace Go.Proofs.YtogopmngbjkcjavGreatDoor
open Go.RowKit
set_option linter.unusedVariables false

theorem info_rec : (Tryz.prog.info? 106).map (fun i => (i.zero, i.size, i.bytes)) = some (some (.agg #[.int .i64 0, .int .i64 0, .int .i64 0, .string ⟨#[]⟩, .int .i64 0, .slice none 0 0]), 6, 72) := by kernel_rfl

theorem six_new (W : World) (r : R) (a : Option Addr) (n c : Nat) : ∀ j u, (RE.cells ⟨r, a, n, c⟩)[j]? = some u → (W.alloc (.cells #[.int .i64 r.e, .int .i64 r.q, .int .i64 r.k, .string r.id, .int .i64 r.n, .slice a n c] 106)).cell? ((⟨W.heap.size, 0, none⟩ : Addr).add j) = some u := by
  intro j u hj
  match j, hj with
  | 0, hj => simp [RE.cells] at hj; subst hj; simp [Addr.add]
  | 1, hj => simp [RE.cells] at hj; subst hj; simp [Addr.add]
  | 2, hj => simp [RE.cells] at hj; subst hj; simp [Addr.add]
  | 3, hj => simp [RE.cells] at hj; subst hj; simp [Addr.add]
  | 4, hj => simp [RE.cells] at hj; subst hj; simp [Addr.add]
  | 5, hj => simp [RE.cells] at hj; subst hj; simp [Addr.add]

theorem six_one (r : R) (a : Option Addr) (n c : Nat) : ∀ u ∈ RE.cells ⟨r, a, n, c⟩, u.oneCell' = true := by
  intro u hu
  simp [RE.cells] at hu
  rcases hu with rfl | rfl | rfl | rfl | rfl | rfl <;> rfl

/-- A record more in a row. -/
theorem RcRow.snoc {W W' : World} {base B : Nat} {v v' : Value} {l : List RE} {e : RE} {o : Obj} (h : RcRow W base v l) (he : Owns W B e.a e.n e.c e.r.zs) (hB : base ≤ B) (hl : ∀ x ∈ l, ∀ q, x.a.map (·.block) = some q → q < B) (ho : W'.ownsRow base 106 6 v' (l.length + 1) (reCells l ++ RE.cells e)) (hg : (W.alloc o).grownBy W' v.ownBlock) : RcRow W' base v' (l ++ [e]) := by
  have hb : Below W.heap.size W (W.alloc o) := (Below.refl _ _).alloc (Nat.le_refl _) _
  have h1 := h.stays hb
  refine ⟨?_, ?_, ?_⟩
  · rw [List.length_append, reCells_append, show reCells [e] = RE.cells e by simp [reCells]]
    exact ho
  · intro x hx
    rcases List.mem_append.1 hx with hx | hx
    · exact (h1.2.1 x hx).grown hg (fun q hq => h1.rowApart (h1.2.1 x hx) q hq)
    · obtain rfl : x = e := by simpa using hx
      exact ((he.below hb).grown hg (fun q hq => h1.rowApart (he.below hb) q hq)).low hB
  · rw [List.pairwise_append]
    refine ⟨h.2.2, by simp, fun x hx y hy q hq hq2 => ?_⟩
    obtain rfl : y = e := by simpa using hy
    have h2 := hl x hx q hq
    have h3 := (he.lt q hq2).1
    omega

end Go.Proofs.YtogopmngbjkcjavGreatDoor
