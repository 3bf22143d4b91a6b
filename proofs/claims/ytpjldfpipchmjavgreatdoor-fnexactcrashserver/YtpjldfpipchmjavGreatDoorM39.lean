/- What the program's GetRec answers, under its table. What the program's ScanRecs answers, under its table. What the program's TopEpoch answers, under its table. The records of sectors are right, and their numbers fit; no program in it. -/
import Derived.Test.YtpjldfpipchmjavGreatDoorM36
import Derived.Test.YtpjldfpipchmjavGreatDoorM38
import Derived.Test.YtpjldfpipchmjavGreatDoorM38
import Derived.Test.YtpjldfpipchmjavGreatDoorM17
import Derived.Test.YtpjldfpipchmjavGreatDoorM04
import Derived.Lib.ConvBytes
import Derived.Lib.Strings
import Derived.Lib.AtoiErrMem
import Derived.Test.YtpjldfpipchmjavGreatDoorM20
import Derived.Test.YtpjldfpipchmjavGreatDoorM20
import Derived.Test.YtpjldfpipchmjavGreatDoorM20
import Derived.Test.YtpjldfpipchmjavGreatDoorM03
import Derived.Test.YtpjldfpipchmjavGreatDoorM14
namespace Go.Proofs.YtpjldfpipchmjavGreatDoor
open Go.RowKit
set_option linter.unusedVariables false

theorem seg_bytesI (w1 : World) (s : ByteArray) : Seg (Lib.bytesWorld w1 5 s) (some ⟨w1.heap.size, 0, none⟩) s.size (txI s) := by
  refine ⟨txI_len s, txI_range s, .inr ⟨w1.heap.size, 0, rfl, by rw [Lib.bytesWorld_size]; omega, fun i hi => ?_⟩⟩
  rw [Nat.zero_add, Lib.bytesWorld_cell w1 5 s i hi]
  have h3 : i < s.data.size := hi
  simp only [txI, List.getD_eq_getElem?_getD, List.getElem?_map, Array.getElem?_toList]
  rw [Array.getElem?_eq_getElem h3]
  rfl

theorem loose_len (l : List Int) (hr : ∀ x ∈ l, 0 ≤ x ∧ x ≤ 255) : (looseR l).id.size ≤ 255 ∧ (looseR l).zs.length ≤ 255 := by
  rw [looseR]
  dsimp only
  rw [txU_size, shortL_len, shortL_len]
  have h1 := (shortN_is l hr 6).2
  have h2 := (shortN_is l hr (11 + shortN l 6)).2
  constructor <;> split <;> omega

theorem putT_okI {r : R} (h : r.ok = true) : putT r.e r.q r.k r.id r.n r.zs = txU r.put := by rw [putT, show okRec r.e r.q r.k r.id r.n r.zs.length = true from h]; rfl

theorem putT_size (r : R) : (putT r.e r.q r.k r.id r.n r.zs).size ≤ 48 := by
  rw [putT]
  split
  · rename_i h
    obtain ⟨_, _, _, hi, _, hd⟩ := okRec_iff h
    rw [txU_size]
    have := put_len r
    rw [R.put, R.body] at this
    omega
  · exact Nat.zero_le _

set_option maxRecDepth 10000 in
set_option maxHeartbeats 3200000 in
theorem implGetR_any (s : ByteArray) (w : World) (hs : s.size ≤ 1099511627776) (ht : RecT w) :
    Calls Tryz.prog 121 #[.string s] w fun e w' => (∃ v, e = .returned v ∧ GotR w.heap.size s v w') ∧ Below w.heap.size w w' := by
  obtain ⟨w1, hw1⟩ : ∃ w1, w.alloc (.cells #[.int .i64 0, .int .i64 0, .int .i64 0, .string ⟨#[]⟩, .int .i64 0, .slice none 0 0] 106) = w1 := ⟨_, rfl⟩
  have HE : Hid (w.alloc (.cells #[.int .i64 0, .int .i64 0, .int .i64 0, .string ⟨#[]⟩, .int .i64 0, .slice none 0 0] 106) = w1) := hw1
  have HQ1 : Hid (BoxN w1 w.heap.size 106 [.int .i64 0, .int .i64 0, .int .i64 0, .string ⟨#[]⟩, .int .i64 0, .slice none 0 0]) := by show BoxN _ _ _ _; rw [← hw1]; exact BoxN.new _ _ _
  have HB1 : Hid (Below w.heap.size w w1) := by show Below _ _ _; rw [← hw1]; exact (Below.refl _ _).alloc (Nat.le_refl _) _
  have HT1 : Hid (RecT w1) := ht.below HB1.out
  clear hw1 ht
  go_enter Tryz.func121, Tryz.ntmps121
  go_upto_region 1 with fail
  rw [HE.out]
  clear HE
  by_cases hlen : 48 < s.size
  · have hli : (48 : Int) < (s.size : Int) := by omega
    have HX : Hid (recOf s = none) := recOf_long hlen
    have HQz : Hid (BoxN w1 w.heap.size 106 [.int .i64 0, .int .i64 0, .int .i64 0, .string ⟨#[]⟩, .int .i64 0, .slice none 0 0]) := HQ1.out
    have HBz : Hid (Below w.heap.size w w1) := HB1.out
    obtain ⟨r0, r1, r2, r3, r4, r5⟩ := (show _ ∧ _ ∧ _ ∧ _ ∧ _ ∧ _ from ⟨HQz.out.cell 0 rfl, HQz.out.cell 1 rfl, HQz.out.cell 2 rfl, HQz.out.cell 3 rfl, HQz.out.cell 4 rfl, HQz.out.cell 5 rfl⟩)
    have f0 := HQz.out.frozen 0
    have f1 := HQz.out.frozen 1
    have f2 := HQz.out.frozen 2
    have f3 := HQz.out.frozen 3
    have f4 := HQz.out.frozen 4
    have f5 := HQz.out.frozen 5
    go_wp2_with fail
    refine bodyPost_ret (v := .tuple #[.agg #[.int .i64 0, .int .i64 0, .int .i64 0, .string ⟨#[]⟩, .int .i64 0, .slice none 0 0], .bool false]) (by simp [results, Tryz.f121, go_sem, r0, r1, r2, r3, r4, r5]) rfl ?_
    exact ⟨⟨_, rfl, .inl ⟨HX.out, rfl⟩⟩, (((((HBz.out.setCell (Nat.le_refl _) _).setCell (Nat.le_refl _) _).setCell (Nat.le_refl _) _).setCell (Nat.le_refl _) _).setCell (Nat.le_refl _) _).setCell (Nat.le_refl _) _⟩
  have hli : ¬ (48 : Int) < (s.size : Int) := by omega
  have hl48 : s.size ≤ 48 := by omega
  have hcv := Lib.run_convert_string_bytes (P := Tryz.prog) w1 9 45 5 s (u := .string) Tryz.underlying9 Tryz.underlying45 Tryz.underlying5
  have hbw : Below w1.heap.size w1 (Lib.bytesWorld w1 5 s) := Lib.bytesWorld_below w1 5 s
  have hsg := seg_bytesI w1 s
  have hcp : s.size ≤ grownCap w1 s.size 0 5 := grownCap_ge w1 s.size 0 5
  obtain ⟨W2, hW2⟩ : ∃ W2, Lib.bytesWorld w1 5 s = W2 := ⟨_, rfl⟩
  obtain ⟨cp, hcpe⟩ : ∃ cp, grownCap w1 s.size 0 5 = cp := ⟨_, rfl⟩
  rw [hW2] at hcv hbw hsg
  rw [hcpe] at hcv hcp
  clear hW2 hcpe
  have HB2 : Hid (Below w.heap.size w W2) := HB1.out.trans (hbw.mono HB1.out.size)
  have HQ2 : Hid (BoxN W2 w.heap.size 106 [.int .i64 0, .int .i64 0, .int .i64 0, .string ⟨#[]⟩, .int .i64 0, .slice none 0 0]) := HQ1.out.stays hbw
  have HT2 : Hid (RecT W2) := HT1.out.below hbw
  have HS2 : Hid (Seg W2 (some ⟨w1.heap.size, 0, none⟩) s.size (txI s)) := hsg
  clear hbw hsg hlen
  go_wp2_with fail
  refine (recOfI_any (some ⟨w1.heap.size, 0, none⟩) s.size cp (txI s) W2 HS2.out hcp hl48).mono ?_
  rintro e W3 ⟨⟨A, C, rfl, ho3⟩, hb3⟩
  clear hcv
  have HG1 : Hid ((looseR (txI s)).ok = true → (looseR (txI s)).put = txI s → recOf s = some (looseR (txI s))) := loose_some
  have HG2 : Hid (¬ ((looseR (txI s)).ok = true ∧ (looseR (txI s)).put = txI s) → recOf s = none) := loose_none
  obtain ⟨hid, hzs⟩ := loose_len (txI s) (txI_range s)
  generalize looseR (txI s) = r at *
  have hb4 := (Below.refl W3.heap.size W3).alloc (Nat.le_refl _) (.cells #[.int .i64 r.e, .int .i64 r.q, .int .i64 r.k, .string r.id, .int .i64 r.n, .slice A r.zs.length C] 106)
  have HB4 : Hid (Below w.heap.size w (W3.alloc (.cells #[.int .i64 r.e, .int .i64 r.q, .int .i64 r.k, .string r.id, .int .i64 r.n, .slice A r.zs.length C] 106))) := HB2.out.trans ((hb3.trans (hb4.mono hb3.size)).mono HB2.out.size)
  have HQ4 : Hid (BoxN (W3.alloc (.cells #[.int .i64 r.e, .int .i64 r.q, .int .i64 r.k, .string r.id, .int .i64 r.n, .slice A r.zs.length C] 106)) w.heap.size 106 [.int .i64 0, .int .i64 0, .int .i64 0, .string ⟨#[]⟩, .int .i64 0, .slice none 0 0]) := (HQ2.out.stays hb3).stays hb4
  have HT4 : Hid (RecT (W3.alloc (.cells #[.int .i64 r.e, .int .i64 r.q, .int .i64 r.k, .string r.id, .int .i64 r.n, .slice A r.zs.length C] 106))) := (HT2.out.below hb3).below hb4
  have HO4 : Hid (Owns (W3.alloc (.cells #[.int .i64 r.e, .int .i64 r.q, .int .i64 r.k, .string r.id, .int .i64 r.n, .slice A r.zs.length C] 106)) W2.heap.size A r.zs.length C r.zs) := ho3.below hb4
  have HR4 : Hid (BoxN (W3.alloc (.cells #[.int .i64 r.e, .int .i64 r.q, .int .i64 r.k, .string r.id, .int .i64 r.n, .slice A r.zs.length C] 106)) W3.heap.size 106 [.int .i64 r.e, .int .i64 r.q, .int .i64 r.k, .string r.id, .int .i64 r.n, .slice A r.zs.length C]) := BoxN.new _ _ _
  have HW2 : Hid (w.heap.size + 1 ≤ W2.heap.size) := HQ2.out.lt
  clear hb3 hb4 ho3
  go_upto_region 4 with fail
  obtain ⟨W4, hW4⟩ : ∃ W4, W3.alloc (.cells #[.int .i64 r.e, .int .i64 r.q, .int .i64 r.k, .string r.id, .int .i64 r.n, .slice A r.zs.length C] 106) = W4 := ⟨_, rfl⟩
  rw [hW4] at HB4 HQ4 HT4 HO4 HR4 ⊢
  clear hW4
  generalize W3.heap.size = rr at *
  have hrl : rr < W4.heap.size := HR4.out.lt
  have x0 : ∀ P : Past W4, P.world.cell? ⟨rr, 0, none⟩ = some (.int .i64 r.e) := fun P => P.cell hrl (HR4.out.cell 0 rfl)
  have x1 : ∀ P : Past W4, P.world.cell? ⟨rr, 1, none⟩ = some (.int .i64 r.q) := fun P => P.cell hrl (HR4.out.cell 1 rfl)
  have x2 : ∀ P : Past W4, P.world.cell? ⟨rr, 2, none⟩ = some (.int .i64 r.k) := fun P => P.cell hrl (HR4.out.cell 2 rfl)
  have x3 : ∀ P : Past W4, P.world.cell? ⟨rr, 3, none⟩ = some (.string r.id) := fun P => P.cell hrl (HR4.out.cell 3 rfl)
  have x4 : ∀ P : Past W4, P.world.cell? ⟨rr, 4, none⟩ = some (.int .i64 r.n) := fun P => P.cell hrl (HR4.out.cell 4 rfl)
  have x5 : ∀ P : Past W4, P.world.cell? ⟨rr, 5, none⟩ = some (.slice A r.zs.length C) := fun P => P.cell hrl (HR4.out.cell 5 rfl)
  have HRok : Hid (∀ P : Past W4, Calls Tryz.prog 152 #[.agg #[.int .i64 r.e, .int .i64 r.q, .int .i64 r.k, .string r.id, .int .i64 r.n, .slice A r.zs.length C]] P.world fun e w' => e = .returned (.bool r.ok) ∧ Below P.world.heap.size P.world w') := fun P => implRok_any _ _ _ _ _ _ _ _ _ (by unfold maxLen; omega) (by omega) (HT4.out.below P.below)
  have HTx : Hid (∀ P : Past W4, Calls Tryz.prog 153 #[.string s] P.world fun e w' => e = .returned (.agg (rtV s)) ∧ Below P.world.heap.size P.world w') := fun P => recText_any s _ hl48
  have HPt : Hid (∀ P : Past W4, Calls Tryz.prog 154 #[.agg #[.int .i64 r.e, .int .i64 r.q, .int .i64 r.k, .string r.id, .int .i64 r.n, .slice A r.zs.length C]] P.world fun e w' => e = .returned (.string (putT r.e r.q r.k r.id r.n r.zs)) ∧ Below P.world.heap.size P.world w') := fun P => implPutR_any _ _ _ _ _ _ _ _ r.zs _ (HO4.out.seg.below P.below) (by unfold maxLen; omega) (by omega) (HT4.out.below P.below)
  have HTy : Hid (∀ P : Past W4, Calls Tryz.prog 153 #[.string (putT r.e r.q r.k r.id r.n r.zs)] P.world fun e w' => e = .returned (.agg (rtV (putT r.e r.q r.k r.id r.n r.zs))) ∧ Below P.world.heap.size P.world w') := fun P => recText_any _ _ (putT_size r)
  have hnq : ∀ P : Past W4, (Op.equalIn 10000 186 (.agg (rtV s)) (.agg (rtV (putT r.e r.q r.k r.id r.n r.zs)))).run Tryz.prog P.world = .ok (decide (s = putT r.e r.q r.k r.id r.n r.zs)) P.world := fun P => rt_eq s _ hl48 (putT_size r) _
  have hne := past_some W4
  have HSame : Hid (r.ok = true → putT r.e r.q r.k r.id r.n r.zs = txU r.put) := putT_okI
  have HRng : Hid (txI (txU r.put) = r.put) := txI_txU _ (sumB_range _ (recB_range _ _ _ _ _ _ HO4.out.2))
  generalize putT r.e r.q r.k r.id r.n r.zs = tt at *
  generalize rtV s = V1 at *
  generalize rtV tt = V2 at *
  cases hok : r.ok
  · rw [hok] at HRok
    have HX : Hid (recOf s = none) := HG2.out (fun h => by rw [hok] at h; cases h.1)
    clear hok HG1 HG2 HSame HRng
    refine wp_region_pastO (by kernel_rfl) (by kernel_rfl) fun ops HO => ?_
    iterate 4 (quiet_step ((first
      | (go_at_call 152; with_reducible exact calls_past (HRok.out _))
      | (go_at_call 153; first | with_reducible exact calls_past (HTx.out _) | with_reducible exact calls_past (HTy.out _))
      | (go_at_call 154; with_reducible exact calls_past (HPt.out _))
      | fail)))
    iterate 6 (refine quiet_past (by rw [HO.out]; kernel_rfl) ?_)
    repeat (quiet_step ((first
      | (go_at_call 152; with_reducible exact calls_past (HRok.out _))
      | (go_at_call 153; first | with_reducible exact calls_past (HTx.out _) | with_reducible exact calls_past (HTy.out _))
      | (go_at_call 154; with_reducible exact calls_past (HPt.out _))
      | fail)))
    refine wpQuiet_nil ?_
    rintro _ ⟨z, rfl⟩
    have HQz : Hid (BoxN z.world w.heap.size 106 [.int .i64 0, .int .i64 0, .int .i64 0, .string ⟨#[]⟩, .int .i64 0, .slice none 0 0]) := HQ4.out.stays z.below
    have HBz : Hid (Below w.heap.size w z.world) := HB4.out.trans (z.below.mono HB4.out.size)
    clear x0 x1 x2 x3 x4 x5 HRok HTx HPt HTy hnq HQ4 HB4
    obtain ⟨r0, r1, r2, r3, r4, r5⟩ := (show _ ∧ _ ∧ _ ∧ _ ∧ _ ∧ _ from ⟨HQz.out.cell 0 rfl, HQz.out.cell 1 rfl, HQz.out.cell 2 rfl, HQz.out.cell 3 rfl, HQz.out.cell 4 rfl, HQz.out.cell 5 rfl⟩)
    have f0 := HQz.out.frozen 0
    have f1 := HQz.out.frozen 1
    have f2 := HQz.out.frozen 2
    have f3 := HQz.out.frozen 3
    have f4 := HQz.out.frozen 4
    have f5 := HQz.out.frozen 5
    go_wp2_with fail
    refine bodyPost_ret (v := .tuple #[.agg #[.int .i64 0, .int .i64 0, .int .i64 0, .string ⟨#[]⟩, .int .i64 0, .slice none 0 0], .bool false]) (by simp [results, Tryz.f121, go_sem, r0, r1, r2, r3, r4, r5]) rfl ?_
    exact ⟨⟨_, rfl, .inl ⟨HX.out, rfl⟩⟩, (((((HBz.out.setCell (Nat.le_refl _) _).setCell (Nat.le_refl _) _).setCell (Nat.le_refl _) _).setCell (Nat.le_refl _) _).setCell (Nat.le_refl _) _).setCell (Nat.le_refl _) _⟩
  rw [hok] at HRok
  have HTt : Hid (txI tt = r.put) := by show _ = _; rw [HSame.out hok, HRng.out]
  by_cases hst : s = tt
  case neg =>
    have hd : decide (s = tt) = false := decide_eq_false hst
    rw [hd] at hnq
    have HX : Hid (recOf s = none) := HG2.out (fun h => hst (txI_inj (by rw [HTt.out, h.2])))
    clear hok HG1 HG2 HSame HRng HTt hst hd
    refine wp_region_pastO (by kernel_rfl) (by kernel_rfl) fun ops HO => ?_
    iterate 4 (quiet_step ((first
      | (go_at_call 152; with_reducible exact calls_past (HRok.out _))
      | (go_at_call 153; first | with_reducible exact calls_past (HTx.out _) | with_reducible exact calls_past (HTy.out _))
      | (go_at_call 154; with_reducible exact calls_past (HPt.out _))
      | fail)))
    iterate 6 (refine quiet_do (by rw [HO.out]; kernel_rfl) (fun K hK => ?_); go_simp; first | (refine hK _ ?_; clear hK K) | (apply Exists.intro; refine ⟨fun _ => ?_, hK _ ?_⟩; (first | (go_at_call 152; with_reducible exact calls_past (HRok.out _)) | (go_at_call 153; first | with_reducible exact calls_past (HTx.out _) | with_reducible exact calls_past (HTy.out _)) | (go_at_call 154; with_reducible exact calls_past (HPt.out _)) | fail); clear hK K))
    repeat (quiet_step ((first
      | (go_at_call 152; with_reducible exact calls_past (HRok.out _))
      | (go_at_call 153; first | with_reducible exact calls_past (HTx.out _) | with_reducible exact calls_past (HTy.out _))
      | (go_at_call 154; with_reducible exact calls_past (HPt.out _))
      | fail)))
    refine wpQuiet_nil ?_
    rintro _ ⟨z, rfl⟩
    have HQz : Hid (BoxN z.world w.heap.size 106 [.int .i64 0, .int .i64 0, .int .i64 0, .string ⟨#[]⟩, .int .i64 0, .slice none 0 0]) := HQ4.out.stays z.below
    have HBz : Hid (Below w.heap.size w z.world) := HB4.out.trans (z.below.mono HB4.out.size)
    clear x0 x1 x2 x3 x4 x5 HRok HTx HPt HTy hnq HQ4 HB4
    obtain ⟨r0, r1, r2, r3, r4, r5⟩ := (show _ ∧ _ ∧ _ ∧ _ ∧ _ ∧ _ from ⟨HQz.out.cell 0 rfl, HQz.out.cell 1 rfl, HQz.out.cell 2 rfl, HQz.out.cell 3 rfl, HQz.out.cell 4 rfl, HQz.out.cell 5 rfl⟩)
    have f0 := HQz.out.frozen 0
    have f1 := HQz.out.frozen 1
    have f2 := HQz.out.frozen 2
    have f3 := HQz.out.frozen 3
    have f4 := HQz.out.frozen 4
    have f5 := HQz.out.frozen 5
    go_wp2_with fail
    refine bodyPost_ret (v := .tuple #[.agg #[.int .i64 0, .int .i64 0, .int .i64 0, .string ⟨#[]⟩, .int .i64 0, .slice none 0 0], .bool false]) (by simp [results, Tryz.f121, go_sem, r0, r1, r2, r3, r4, r5]) rfl ?_
    exact ⟨⟨_, rfl, .inl ⟨HX.out, rfl⟩⟩, (((((HBz.out.setCell (Nat.le_refl _) _).setCell (Nat.le_refl _) _).setCell (Nat.le_refl _) _).setCell (Nat.le_refl _) _).setCell (Nat.le_refl _) _).setCell (Nat.le_refl _) _⟩
  have hd : decide (s = tt) = true := decide_eq_true hst
  rw [hd] at hnq
  have HX : Hid (recOf s = some r) := HG1.out hok (by rw [hst, HTt.out])
  clear hok HG1 HG2 HSame HRng HTt hst hd
  refine wp_region_pastO (by kernel_rfl) (by kernel_rfl) fun ops HO => ?_
  iterate 4 (quiet_step ((first
      | (go_at_call 152; with_reducible exact calls_past (HRok.out _))
      | (go_at_call 153; first | with_reducible exact calls_past (HTx.out _) | with_reducible exact calls_past (HTy.out _))
      | (go_at_call 154; with_reducible exact calls_past (HPt.out _))
      | fail)))
  iterate 6 (refine quiet_do (by rw [HO.out]; kernel_rfl) (fun K hK => ?_); go_simp; first | (refine hK _ ?_; clear hK K) | (apply Exists.intro; refine ⟨fun _ => ?_, hK _ ?_⟩; (first | (go_at_call 152; with_reducible exact calls_past (HRok.out _)) | (go_at_call 153; first | with_reducible exact calls_past (HTx.out _) | with_reducible exact calls_past (HTy.out _)) | (go_at_call 154; with_reducible exact calls_past (HPt.out _)) | fail); clear hK K))
  repeat (quiet_step ((first
      | (go_at_call 152; with_reducible exact calls_past (HRok.out _))
      | (go_at_call 153; first | with_reducible exact calls_past (HTx.out _) | with_reducible exact calls_past (HTy.out _))
      | (go_at_call 154; with_reducible exact calls_past (HPt.out _))
      | fail)))
  refine wpQuiet_nil ?_
  rintro _ ⟨z, rfl⟩
  have HQz : Hid (BoxN z.world w.heap.size 106 [.int .i64 0, .int .i64 0, .int .i64 0, .string ⟨#[]⟩, .int .i64 0, .slice none 0 0]) := HQ4.out.stays z.below
  have HRz : Hid (BoxN z.world rr 106 [.int .i64 r.e, .int .i64 r.q, .int .i64 r.k, .string r.id, .int .i64 r.n, .slice A r.zs.length C]) := HR4.out.stays z.below
  have HBz : Hid (Below w.heap.size w z.world) := HB4.out.trans (z.below.mono HB4.out.size)
  have HOz : Hid (Owns z.world (w.heap.size + 1) A r.zs.length C r.zs) := owns_low (HO4.out.below z.below) HW2.out
  clear x0 x1 x2 x3 x4 x5 HRok HTx HPt HTy hnq HQ4 HB4 HR4 HO4
  have HO9 : Hid (∀ (u0 u1 u2 u3 u4 u5 : Value), Owns ((((((z.world.setCell ⟨w.heap.size, 0, none⟩ u0).setCell ⟨w.heap.size, 1, none⟩ u1).setCell ⟨w.heap.size, 2, none⟩ u2).setCell ⟨w.heap.size, 3, none⟩ u3).setCell ⟨w.heap.size, 4, none⟩ u4).setCell ⟨w.heap.size, 5, none⟩ u5) w.heap.size A r.zs.length C r.zs) := fun u0 u1 u2 u3 u4 u5 => by
    have hA : A.map (·.block) ≠ some w.heap.size := fun e => by have := (HOz.out.lt _ e).1; omega
    exact owns_low (owns_set (owns_set (owns_set (owns_set (owns_set (owns_set HOz.out hA) hA) hA) hA) hA) hA) (by omega)
  obtain ⟨z0, z1, z2, z3, z4, z5⟩ := (show _ ∧ _ ∧ _ ∧ _ ∧ _ ∧ _ from ⟨HRz.out.cell 0 rfl, HRz.out.cell 1 rfl, HRz.out.cell 2 rfl, HRz.out.cell 3 rfl, HRz.out.cell 4 rfl, HRz.out.cell 5 rfl⟩)
  obtain ⟨r0, r1, r2, r3, r4, r5⟩ := (show _ ∧ _ ∧ _ ∧ _ ∧ _ ∧ _ from ⟨HQz.out.cell 0 rfl, HQz.out.cell 1 rfl, HQz.out.cell 2 rfl, HQz.out.cell 3 rfl, HQz.out.cell 4 rfl, HQz.out.cell 5 rfl⟩)
  have f0 := HQz.out.frozen 0
  have f1 := HQz.out.frozen 1
  have f2 := HQz.out.frozen 2
  have f3 := HQz.out.frozen 3
  have f4 := HQz.out.frozen 4
  have f5 := HQz.out.frozen 5
  go_wp2_with fail
  refine bodyPost_ret (v := .tuple #[.agg #[.int .i64 r.e, .int .i64 r.q, .int .i64 r.k, .string r.id, .int .i64 r.n, .slice A r.zs.length C], .bool true]) (by simp [results, Tryz.f121, go_sem, r0, r1, r2, r3, r4, r5]) rfl ?_
  exact ⟨⟨_, rfl, .inr ⟨r, A, C, HX.out, rfl, HO9.out _ _ _ _ _ _⟩⟩, (((((HBz.out.setCell (Nat.le_refl _) _).setCell (Nat.le_refl _) _).setCell (Nat.le_refl _) _).setCell (Nat.le_refl _) _).setCell (Nat.le_refl _) _).setCell (Nat.le_refl _) _⟩

end Go.Proofs.YtpjldfpipchmjavGreatDoor

namespace Go.Proofs.YtpjldfpipchmjavGreatDoor
open Go.RowKit
set_option linter.unusedVariables false

set_option maxRecDepth 10000 in
set_option maxHeartbeats 1600000 in
theorem implScan_any (a : Option Addr) (n ca : Nat) (xs : List ByteArray) (a' : Option Addr) (n' ca' : Nat) (w : World) (h1 : Strs w a n xs) (hn : n ≤ 1099511627776) (hz : ∀ x ∈ xs, x.size ≤ 1048576) (ht : RecT w) :
    Calls Tryz.prog 74 #[.agg #[.slice a n ca, .slice a' n' ca']] w fun e w' => (∃ v l, e = .returned v ∧ RcRow w' w.heap.size v l ∧ l.map RE.r = scanR xs) ∧ Below w.heap.size w w' := by
  obtain ⟨i0, hi, hz0, hz1, hz2⟩ := info_parts info_rec
  have HX : Hid (∀ W, Below w.heap.size w W → Strs W a n xs) := fun W h => h1.below h
  have HL : Hid (xs.length = n) := h1.1
  have HZ : Hid (∀ x ∈ xs, x.size ≤ 1048576) := hz
  have HRT : Hid (RecT w) := ht
  clear h1 hz ht
  obtain ⟨w0, hw0⟩ : ∃ w0, w.alloc (.cells #[.slice a n ca, .slice a' n' ca'] 33) = w0 := ⟨_, rfl⟩
  have HE : Hid (w.alloc (.cells #[.slice a n ca, .slice a' n' ca'] 33) = w0) := hw0
  have HA : Hid (Box2R w0 w.heap.size 33 (.slice a n ca) (.slice a' n' ca')) := by show Box2R _ _ _ _ _; rw [← hw0]; exact Box2R.new _ _ _ _
  have HB : Hid (Below w.heap.size w w0) := by show Below _ _ _; rw [← hw0]; exact (Below.refl _ _).alloc (Nat.le_refl _) _
  have HO0 : Hid (RcRow (w0.alloc (.cells #[] 106)) w0.heap.size (.slice (some ⟨w0.heap.size, 0, none⟩) 0 0) []) := RcRow.nil w0
  clear hw0
  have HB0 : Hid (Below w0.heap.size w0 (w0.alloc (.cells #[] 106))) := (Below.refl _ _).alloc (Nat.le_refl _) _
  obtain ⟨c0, c1⟩ := HA.out.cells
  have HA0 : Hid (Box2R (w0.alloc (.cells #[] 106)) w.heap.size 33 (.slice a n ca) (.slice a' n' ca')) := HA.out.alloc _
  obtain ⟨d0, d1⟩ := HA0.out.cells
  go_enter Tryz.func74, Tryz.ntmps74
  go_upto_region 1 with fail
  rw [HE.out]
  clear HE
  go_wp2_with fail
  clear c0 c1 d0 d1 HA0
  go_loopw [3, 4, 13] (fun v la i wr => ∃ (k : Nat) (last : Int) (l : List RE), k ≤ n ∧ k ≤ 200 ∧ l.length = k ∧ i = .int .i64 (k : Int) ∧ la = .int .i64 last ∧ Hid (RcRow wr w0.heap.size v l) ∧ Hid (l.map RE.r ++ scanFrom k last (xs.drop k) = scanR xs) ∧ Hid (Below w0.heap.size w0 wr)) (fun _ _ i _ => n - (intOf i).toNat)
  case atStart => exact ⟨0, 0, [], Nat.zero_le _, Nat.zero_le _, rfl, rfl, rfl, HO0, rfl, HB0⟩
  case round =>
    clear HO0 HB0
    obtain ⟨k, last, l, hk, hk2, hlk, rfl, rfl, HO, HS, HW⟩ := hrel
    obtain ⟨va, vc, hve⟩ := HO.out.shape
    subst hve
    rw [hlk] at HO ⊢
    by_cases hlt : k < n
    · have hb := HB.out.trans (HW.out.mono HB.out.size)
      obtain ⟨p, po, x, rfl, _, hkx, hp⟩ := (HX.out _ hb).at hlt
      have HK : Hid (xs[k]? = some x) := hkx
      have hxz : x.size ≤ 1048576 := HZ.out x (List.mem_of_getElem? hkx)
      have hki : (k : Int) < (n : Int) := by omega
      have hk0 : (0 : Int) ≤ (k : Int) := by omega
      have HTr : Hid (RecT wr) := HRT.out.below hb
      clear hkx hb
      have HEnd : Hid (nextR k last x = none → l.map RE.r = scanR xs) := fun h => by
        have h2 := HS.out
        rw [scan_stop HK.out h, List.append_nil] at h2
        exact h2
      go_wp2_with fail
      refine (implGetR_any x wr (by omega) HTr.out).mono ?_
      rintro _ w1 ⟨⟨v, rfl, hgot⟩, hb1⟩
      have hb01 : Below w0.heap.size w0 w1 := HW.out.trans (hb1.mono HW.out.size)
      rcases hgot with ⟨hr, rfl⟩ | ⟨r, A, C, hr, rfl, ho⟩
      · have HF : Hid (l.map RE.r = scanR xs) := HEnd.out (by rw [nextR, hr])
        have hb2 := (Below.refl w1.heap.size w1).alloc (Nat.le_refl _) (.cells #[.int .i64 0, .int .i64 0, .int .i64 0, .string ⟨#[]⟩, .int .i64 0, .slice none 0 0] 106)
        have HO2 : Hid (RcRow (w1.alloc (.cells #[.int .i64 0, .int .i64 0, .int .i64 0, .string ⟨#[]⟩, .int .i64 0, .slice none 0 0] 106)) w.heap.size (.slice va k vc) l) := ((HO.out.stays hb1).stays hb2).low HB.out.size
        have HW2 : Hid (Below w.heap.size w (w1.alloc (.cells #[.int .i64 0, .int .i64 0, .int .i64 0, .string ⟨#[]⟩, .int .i64 0, .slice none 0 0] 106))) := HB.out.trans ((hb01.alloc hb01.size _).mono HB.out.size)
        clear hr hb1 hb2 hb01 HW HO HEnd HS
        go_wp2_with fail
        go_ret
        exact ⟨⟨_, l, rfl, HO2.out, HF.out⟩, HW2.out⟩
      by_cases hq : r.q = (k : Int)
      case neg =>
        have hqb : (r.q != (k : Int)) = true := by simpa using hq
        have HF : Hid (l.map RE.r = scanR xs) := HEnd.out (by rw [nextR, hr]; exact if_neg (fun h => hq h.1))
        clear hq
        have hb2 := (Below.refl w1.heap.size w1).alloc (Nat.le_refl _) (.cells #[.int .i64 r.e, .int .i64 r.q, .int .i64 r.k, .string r.id, .int .i64 r.n, .slice A r.zs.length C] 106)
        have HO2 : Hid (RcRow (w1.alloc (.cells #[.int .i64 r.e, .int .i64 r.q, .int .i64 r.k, .string r.id, .int .i64 r.n, .slice A r.zs.length C] 106)) w.heap.size (.slice va k vc) l) := ((HO.out.stays hb1).stays hb2).low HB.out.size
        have HW2 : Hid (Below w.heap.size w (w1.alloc (.cells #[.int .i64 r.e, .int .i64 r.q, .int .i64 r.k, .string r.id, .int .i64 r.n, .slice A r.zs.length C] 106))) := HB.out.trans ((hb01.alloc hb01.size _).mono HB.out.size)
        clear hr hb1 hb2 hb01 HW HO HEnd HS ho
        go_wp2_with fail
        go_ret
        exact ⟨⟨_, l, rfl, HO2.out, HF.out⟩, HW2.out⟩
      have hqb : (r.q != (k : Int)) = false := by simpa using hq
      have HQk : Hid (r.q = (k : Int)) := hq
      clear hq
      by_cases he : last ≤ r.e
      case neg =>
        have hel : r.e < last := by omega
        have HF : Hid (l.map RE.r = scanR xs) := HEnd.out (by rw [nextR, hr]; exact if_neg (fun h => he h.2))
        clear he
        have hb2 := (Below.refl w1.heap.size w1).alloc (Nat.le_refl _) (.cells #[.int .i64 r.e, .int .i64 r.q, .int .i64 r.k, .string r.id, .int .i64 r.n, .slice A r.zs.length C] 106)
        have HO2 : Hid (RcRow (w1.alloc (.cells #[.int .i64 r.e, .int .i64 r.q, .int .i64 r.k, .string r.id, .int .i64 r.n, .slice A r.zs.length C] 106)) w.heap.size (.slice va k vc) l) := ((HO.out.stays hb1).stays hb2).low HB.out.size
        have HW2 : Hid (Below w.heap.size w (w1.alloc (.cells #[.int .i64 r.e, .int .i64 r.q, .int .i64 r.k, .string r.id, .int .i64 r.n, .slice A r.zs.length C] 106))) := HB.out.trans ((hb01.alloc hb01.size _).mono HB.out.size)
        clear hr hb1 hb2 hb01 HW HO HEnd HS ho
        go_wp2_with fail
        go_ret
        exact ⟨⟨_, l, rfl, HO2.out, HF.out⟩, HW2.out⟩
      have hel : ¬ r.e < last := by omega
      have hok := okRec_iff (recOf_iff.1 hr).1
      have hk199 : k ≤ 199 := by have h1 := hok.2.1; have h2 := HQk.out; omega
      have hd24 : r.zs.length ≤ 24 := hok.2.2.2.2.2
      have HS2 : Hid (l.map RE.r ++ r :: scanFrom (k + 1) r.e (xs.drop (k + 1)) = scanR xs) := by
        have h2 := HS.out
        rw [scan_go HK.out (show nextR k last x = some r by rw [nextR, hr]; exact if_pos ⟨HQk.out, he⟩)] at h2
        exact h2
      have hb2 := (Below.refl w1.heap.size w1).alloc (Nat.le_refl _) (.cells #[.int .i64 r.e, .int .i64 r.q, .int .i64 r.k, .string r.id, .int .i64 r.n, .slice A r.zs.length C] 106)
      have HB2 : Hid (Below w0.heap.size w0 (w1.alloc (.cells #[.int .i64 r.e, .int .i64 r.q, .int .i64 r.k, .string r.id, .int .i64 r.n, .slice A r.zs.length C] 106))) := hb01.alloc hb01.size _
      have HO2 : Hid (RcRow (w1.alloc (.cells #[.int .i64 r.e, .int .i64 r.q, .int .i64 r.k, .string r.id, .int .i64 r.n, .slice A r.zs.length C] 106)) w0.heap.size (.slice va k vc) l) := (HO.out.stays hb1).stays hb2
      have HG2 : Hid (Owns (w1.alloc (.cells #[.int .i64 r.e, .int .i64 r.q, .int .i64 r.k, .string r.id, .int .i64 r.n, .slice A r.zs.length C] 106)) wr.heap.size A r.zs.length C r.zs) := ho.below hb2
      have HX2 : Hid (BoxN (w1.alloc (.cells #[.int .i64 r.e, .int .i64 r.q, .int .i64 r.k, .string r.id, .int .i64 r.n, .slice A r.zs.length C] 106)) w1.heap.size 106 [.int .i64 r.e, .int .i64 r.q, .int .i64 r.k, .string r.id, .int .i64 r.n, .slice A r.zs.length C]) := BoxN.new _ _ _
      have HAp : Hid (∀ e ∈ l, ∀ q, e.a.map (·.block) = some q → q < wr.heap.size) := fun e he q hq => ((HO.out.2.1 e he).lt q hq).2
      have hws : w0.heap.size ≤ wr.heap.size := HW.out.size
      have HVa : Hid (∀ q, (Value.slice va k vc).ownBlock = some q → q < w1.heap.size) := fun q hq => by have h1 := (HO.out.1.lt q hq).2; have h2 := hb1.size; omega
      clear hok hr hb1 hb2 hb01 HW HO HEnd HS ho HQk he
      go_upto_region 8 with fail
      clear hqb hel
      obtain ⟨x2, hx2⟩ : ∃ x2, w1.alloc (.cells #[.int .i64 r.e, .int .i64 r.q, .int .i64 r.k, .string r.id, .int .i64 r.n, .slice A r.zs.length C] 106) = x2 := ⟨_, rfl⟩
      rw [hx2] at HB2 HO2 HG2 HX2 ⊢
      clear hx2
      generalize w1.heap.size = bx at *
      have s0 := HX2.out.cell 0 rfl
      have s1 := HX2.out.cell 1 rfl
      have s2 := HX2.out.cell 2 rfl
      have s3 := HX2.out.cell 3 rfl
      have s4 := HX2.out.cell 4 rfl
      have s5 := HX2.out.cell 5 rfl
      have HN : Hid (∀ j u, (RE.cells ⟨r, A, r.zs.length, C⟩)[j]? = some u → (x2.alloc (.cells #[.int .i64 r.e, .int .i64 r.q, .int .i64 r.k, .string r.id, .int .i64 r.n, .slice A r.zs.length C] 106)).cell? ((⟨x2.heap.size, 0, none⟩ : Addr).add j) = some u) := six_new x2 r A r.zs.length C
      have HO2' : Hid ((x2.alloc (.cells #[.int .i64 r.e, .int .i64 r.q, .int .i64 r.k, .string r.id, .int .i64 r.n, .slice A r.zs.length C] 106)).ownsRow w0.heap.size 106 6 (.slice va k vc) k (reCells l)) := by
        have h := HO2.out.1.alloc (.cells #[.int .i64 r.e, .int .i64 r.q, .int .i64 r.k, .string r.id, .int .i64 r.n, .slice A r.zs.length C] 106)
        rw [hlk] at h
        exact h
      go_wp2_with (at_builtin; refine wpList_append_own _ rfl _ _ 100 rfl w0.heap.size 106 i0 (.agg #[.int .i64 0, .int .i64 0, .int .i64 0, .string ⟨#[]⟩, .int .i64 0, .slice none 0 0]) 6 72 Tryz.underlying100 hi hz0 hz1 hz2 rfl (by decide) (.slice va k vc) k _ rfl HO2'.out ⟨x2.heap.size, 0, none⟩ 1 1 (RE.cells ⟨r, A, r.zs.length, C⟩) rfl rfl HN.out (six_one r A r.zs.length C) (by unfold maxLen; omega) (by omega) (by have := HB2.out.size; simp; omega) ?_; intro v3 x3 hown3 hgrow3 _; refine Hid.out ?_)
      refine hidden ?_
      have HO3 : Hid (RcRow x3 w0.heap.size v3 (l ++ [⟨r, A, r.zs.length, C⟩])) := HO2.out.snoc HG2.out hws HAp.out (by rw [hlk]; exact hown3) hgrow3
      have HB3 : Hid (Below w0.heap.size w0 x3) := (HB2.out.alloc HB2.out.size _).grown hgrow3 (by have := HB2.out.size; simp; omega) (fun q hq => (HO2.out.1.lt q hq).1)
      have HX3 : Hid (BoxN x3 bx 106 [.int .i64 r.e, .int .i64 r.q, .int .i64 r.k, .string r.id, .int .i64 r.n, .slice A r.zs.length C]) := (HX2.out.alloc _).grown hgrow3 (fun e => by have := HVa.out _ e; omega)
      have t0 := HX3.out.cell 0 rfl
      clear hown3 hgrow3 HN HO2' s0 s1 s2 s3 s4 s5 HO2 HG2 HX2 HB2 HX3
      obtain ⟨v3a, v3c, rfl⟩ := HO3.out.shape
      rw [List.length_append, hlk] at HO3 ⊢
      go_wp2_with fail
      go_roundw
      case rel =>
        refine ⟨k + 1, r.e, l ++ [⟨r, A, r.zs.length, C⟩], by omega, by omega, by simp [hlk], by go_num, rfl, HO3, ?_, HB3⟩
        show _ = _
        rw [List.map_append, List.append_assoc]
        exact HS2.out
      case measure => simp [intOf]; omega
    · obtain rfl : k = n := by omega
      have HF : Hid (l.map RE.r = scanR xs) := by
        have h2 := HS.out
        rw [List.drop_of_length_le (by have := HL.out; omega)] at h2
        show _ = _
        simpa [scanFrom] using h2
      have HO2 : Hid (RcRow wr w.heap.size (.slice va k vc) l) := HO.out.low HB.out.size
      have HW2 : Hid (Below w.heap.size w wr) := HB.out.trans (HW.out.mono HB.out.size)
      clear HO HS HW
      go_wp2_with fail
      go_ret
      exact ⟨⟨_, l, rfl, HO2.out, HF.out⟩, HW2.out⟩

end Go.Proofs.YtpjldfpipchmjavGreatDoor

namespace Go.Proofs.YtpjldfpipchmjavGreatDoor
open Go.RowKit
set_option linter.unusedVariables false

set_option maxRecDepth 10000 in
set_option maxHeartbeats 1600000 in
theorem implTop_any (a : Option Addr) (n ca : Nat) (xs : List ByteArray) (a' : Option Addr) (n' ca' : Nat) (w : World) (h1 : Strs w a n xs) (hn : n ≤ 1099511627776) (hz : ∀ x ∈ xs, x.size ≤ 1048576) (ht : RecT w) :
    Calls Tryz.prog 78 #[.agg #[.slice a n ca, .slice a' n' ca']] w fun e w' => e = .returned (.int .i64 (topE xs)) ∧ Below w.heap.size w w' := by
  have HX : Hid (∀ W, Below w.heap.size w W → Strs W a n xs) := fun W h => h1.below h
  have HL : Hid (xs.length = n) := h1.1
  have HZ : Hid (∀ x ∈ xs, x.size ≤ 1048576) := hz
  have HRT : Hid (RecT w) := ht
  clear h1 hz ht
  obtain ⟨w0, hw0⟩ : ∃ w0, w.alloc (.cells #[.slice a n ca, .slice a' n' ca'] 33) = w0 := ⟨_, rfl⟩
  have HE : Hid (w.alloc (.cells #[.slice a n ca, .slice a' n' ca'] 33) = w0) := hw0
  have HA : Hid (Box2R w0 w.heap.size 33 (.slice a n ca) (.slice a' n' ca')) := by show Box2R _ _ _ _ _; rw [← hw0]; exact Box2R.new _ _ _ _
  have HB : Hid (Below w.heap.size w w0) := by show Below _ _ _; rw [← hw0]; exact (Below.refl _ _).alloc (Nat.le_refl _) _
  clear hw0
  obtain ⟨c0, c1⟩ := HA.out.cells
  go_enter Tryz.func78, Tryz.ntmps78
  go_upto_region 1 with fail
  rw [HE.out]
  clear HE
  go_wp2_with fail
  clear c0 c1
  go_loopw [3, 11] (fun v i wr => ∃ k : Nat, k ≤ n ∧ i = .int .i64 (k : Int) ∧ v = .int .i64 (topE (xs.take k)) ∧ Hid (Below w0.heap.size w0 wr)) (fun _ i _ => n - (intOf i).toNat)
  case atStart => exact ⟨0, Nat.zero_le _, rfl, rfl, Below.refl _ _⟩
  case round =>
    obtain ⟨k, hk, rfl, rfl, HW⟩ := hrel
    by_cases hlt : k < n
    · have hb := HB.out.trans (HW.out.mono HB.out.size)
      obtain ⟨p, po, x, rfl, _, hkx, hp⟩ := (HX.out _ hb).at hlt
      have HT : Hid (topE (xs.take (k + 1)) = topStep (topE (xs.take k)) x) := topE_step xs k x hkx
      have hxz : x.size ≤ 1048576 := HZ.out x (List.mem_of_getElem? hkx)
      have hki : (k : Int) < (n : Int) := by omega
      have hk0 : (0 : Int) ≤ (k : Int) := by omega
      have HTr : Hid (RecT wr) := HRT.out.below hb
      clear hkx hb
      generalize topE (xs.take k) = m at *
      go_wp2_with fail
      refine (implGetR_any x wr (by omega) HTr.out).mono ?_
      rintro _ w1 ⟨⟨v, rfl, hgot⟩, hb1⟩
      have hb01 : Below w0.heap.size w0 w1 := HW.out.trans (hb1.mono HW.out.size)
      rcases hgot with ⟨hr, rfl⟩ | ⟨r, A, C, hr, rfl, ho⟩
      · have HT2 : Hid (topE (xs.take (k + 1)) = m) := HT.out.trans (topStep_none hr)
        have HW2 : Hid (Below w0.heap.size w0 (w1.alloc (.cells #[.int .i64 0, .int .i64 0, .int .i64 0, .string ⟨#[]⟩, .int .i64 0, .slice none 0 0] 106))) := hb01.alloc hb01.size _
        clear hr hb1 hb01 HT HW
        go_wp2_with fail
        go_roundw
        case rel => exact ⟨k + 1, by omega, by go_num, by rw [HT2.out], HW2⟩
        case measure => simp [intOf]; omega
      · have HT2 : Hid (topE (xs.take (k + 1)) = if m < r.e then r.e else m) := HT.out.trans (topStep_some hr)
        have HW2 : Hid (Below w0.heap.size w0 (w1.alloc (.cells #[.int .i64 r.e, .int .i64 r.q, .int .i64 r.k, .string r.id, .int .i64 r.n, .slice A r.zs.length C] 106))) := hb01.alloc hb01.size _
        clear hr hb1 hb01 HT HW ho
        by_cases hm : m < r.e
        · rw [if_pos hm] at HT2
          go_wp2_with fail
          go_roundw
          case rel => exact ⟨k + 1, by omega, by go_num, by rw [HT2.out], HW2⟩
          case measure => simp [intOf]; omega
        · rw [if_neg hm] at HT2
          go_wp2_with fail
          go_roundw
          case rel => exact ⟨k + 1, by omega, by go_num, by rw [HT2.out], HW2⟩
          case measure => simp [intOf]; omega
    · have hkl : k = n := by omega
      have HT : Hid (topE (xs.take k) = topE xs) := by show _ = _; rw [hkl, List.take_of_length_le (by have := HL.out; omega)]
      generalize topE (xs.take k) = m at *
      go_wp2_with fail
      go_ret
      exact ⟨by rw [← HT.out]; rfl, HB.out.trans (HW.out.mono HB.out.size)⟩

end Go.Proofs.YtpjldfpipchmjavGreatDoor

namespace Go.Proofs.YtpjldfpipchmjavGreatDoor
open Go.RowKit

theorem scan_allok (X : List ByteArray) : ∀ r ∈ scanR X, r.ok = true := by
  intro r hr
  obtain ⟨k, hk, rfl⟩ := List.getElem_of_mem hr
  obtain ⟨⟨x, _, hx⟩, _⟩ := scan_one (List.getElem?_eq_getElem hk)
  exact (recOf_iff.1 hx).1

theorem rows_ns {rs : List RE} {X : List ByteArray} (h : rs.map RE.r = scanR X) : ∀ e ∈ rs, -9223372036854775808 ≤ e.r.n ∧ e.r.n ≤ 9223372036854775807 := by
  intro e he
  have h1 := scan_allok X e.r (by rw [← h]; exact List.mem_map_of_mem he)
  have h2 := okRec_iff h1
  omega

end Go.Proofs.YtpjldfpipchmjavGreatDoor
