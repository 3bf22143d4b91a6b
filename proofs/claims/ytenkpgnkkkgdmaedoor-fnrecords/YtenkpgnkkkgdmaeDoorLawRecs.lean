/- The law that a drawn record that is right comes back of its text, and that a bit that is turned in its sum is told; under its table. -/
import Derived.Test.YtenkpgnkkkgdmaeDoorDrawPutR
import Derived.Test.YtenkpgnkkkgdmaeDoorRecTurn
import Derived.Test.YtenkpgnkkkgdmaeDoorRecOkS
import Derived.Test.YtenkpgnkkkgdmaeDoorAtFix
import Derived.Test.YtenkpgnkkkgdmaeDoorSameB
import Derived.Test.YtenkpgnkkkgdmaeDoorLawBig
import Derived.Test.YtenkpgnkkkgdmaeDoorGetRecI
import Derived.Deep.CutBlock
import Derived.StillTailTactics
namespace Go.Proofs.YtenkpgnkkkgdmaeDoor
open Go.RowKit
set_option linter.unusedVariables false

theorem seg_cell {W : World} {g n : Nat} {zs : List Int} (h : Seg W (some ⟨g, 0, none⟩) n zs) {i : Nat} (hi : i < n) : W.cell? ⟨g, i, none⟩ = some (.int .u8 (zs.getD i 0)) := by
  rcases h.2.2 with h0 | ⟨b, off, e, _, hc⟩
  · omega
  · injection e with e
    injection e with e1 e2 _
    subst e1 e2
    have := hc i hi
    rwa [Nat.zero_add] at this

theorem xor_all : ∀ x : Fin 256, ∀ j : Fin 8, 0 ≤ bits .xor .u8 (x.val : Int) (2 ^ min j.val 8 % 256) ∧ bits .xor .u8 (x.val : Int) (2 ^ min j.val 8 % 256) ≤ 255 ∧ bits .xor .u8 (x.val : Int) (2 ^ min j.val 8 % 256) ≠ (x.val : Int) := by decide +kernel

/-- A byte whose one bit is turned is another byte. -/
theorem xor_turns (X : Int) (h0 : 0 ≤ X) (h1 : X ≤ 255) (k : Nat) : 0 ≤ bits .xor .u8 X (2 ^ min (k % 8) 8 % 256) ∧ bits .xor .u8 X (2 ^ min (k % 8) 8 % 256) ≤ 255 ∧ bits .xor .u8 X (2 ^ min (k % 8) 8 % 256) ≠ X := by
  obtain ⟨x, rfl⟩ := Int.eq_ofNat_of_zero_le h0
  exact xor_all ⟨x, by omega⟩ ⟨k % 8, by omega⟩

/-- A byte is put. -/
theorem seg_put {W : World} {g n : Nat} {zs : List Int} (h : Seg W (some ⟨g, 0, none⟩) n zs) {i : Nat} (hi : i < n) (z : Int) (hz : 0 ≤ z ∧ z ≤ 255) : Seg (W.setCell ⟨g, i, none⟩ (.int .u8 z)) (some ⟨g, 0, none⟩) n (zs.set i z) := by
  obtain ⟨h1, h2, h3⟩ := h
  have hcell := fun {k : Nat} (hk : k < n) => seg_cell ⟨h1, h2, h3⟩ hk
  refine ⟨by simpa using h1, fun x hx => ?_, ?_⟩
  · rcases List.mem_or_eq_of_mem_set hx with h | h
    · exact h2 x h
    · rw [h]; exact hz
  · rcases h3 with h0 | ⟨b, off, e, hb, hc⟩
    · omega
    · injection e with e
      injection e with e1 e2 _
      subst e1 e2
      refine .inr ⟨g, 0, rfl, by simpa using hb, fun k hk => ?_⟩
      rw [Nat.zero_add]
      by_cases hki : k = i
      · subst hki
        rw [World.cell?_setCell_same _ _ _ (hcell hk), List.getD_eq_getElem?_getD, List.getElem?_set_self (by omega)]
        rfl
      · rw [World.cell?_setCell_other _ _ _ _ (fun e => hki (by injection e with _ e2; exact e2.symm)), hcell hk, List.getD_eq_getElem?_getD, List.getD_eq_getElem?_getD, List.getElem?_set_ne (by omega)]

/-- The text with one byte of its last four turned is no record. -/
theorem turned_none {r : R} {s : ByteArray} (h : r.ok = true) (hz : ∀ x ∈ r.zs, 0 ≤ x ∧ x ≤ 255) (hs : s = txU r.put) {I : Nat} (hI : I < s.size) (hI2 : s.size ≤ I + 4) {z : Int} (hzz : 0 ≤ z ∧ z ≤ 255) (hne : z ≠ (txI s).getD I 0) : recOf (txU ((txI s).set I z)) = none := by
  have hp := put_range hz
  have e : txI s = r.put := by rw [hs, txI_txU _ hp]
  have hsz : s.size = r.put.length := by rw [hs, txU_size]
  rw [e] at hne ⊢
  refine rec_turned h (fun x hx => ?_) (by simp) ?_ (fun h2 => ?_)
  · rcases List.mem_or_eq_of_mem_set hx with h | h
    · exact hp x h
    · rw [h]; exact hzz
  · rw [List.take_set_of_le (by omega)]
  · have h3 : (r.put.set I z)[I]? = some z := List.getElem?_set_self (by omega)
    rw [h2] at h3
    rw [List.getD_eq_getElem?_getD, h3] at hne
    exact hne rfl

set_option maxRecDepth 10000 in
set_option maxHeartbeats 3200000 in
theorem lawRecs_any (a : Option Addr) (len cap : Nat) (zs : List Int) (w : World) (hm : len ≤ maxLen) (hs : Seg w a len zs) (ht : RecT w) :
    Calls Tryd.prog 5 #[.slice a len cap] w fun e w' => e = .returned (.bool true) ∧ Below w.heap.size w w' := by
  have HS : Hid (Seg w a len zs) := hs
  clear hs
  by_cases hbig : (1048576 : Int) < (len : Int)
  · have hd : Hid (decide ((1048576 : Int) < (len : Int)) = true) := by show _ = _; simpa using hbig
    go_enter Tryd.func5, Tryd.ntmps5
    go_wp2_with fail
    refine (big_any a len cap w hm).mono ?_
    rintro e w1 ⟨rfl, hw1⟩
    subst w1
    rw [hd.out]
    go_wp2_with fail
    go_ret
    exact ⟨rfl, Below.refl _ _⟩
  have hd : Hid (decide ((1048576 : Int) < (len : Int)) = false) := by show _ = _; simpa using hbig
  have hl : len ≤ 1099511627776 := by omega
  clear hbig
  have HRT : Hid (∀ W, Below w.heap.size w W → RecT W) := fun W h => ht.below h
  clear ht
  go_enter Tryd.func5, Tryd.ntmps5
  go_wp2_with fail
  refine (big_any a len cap w hm).mono ?_
  rintro e w1 ⟨rfl, hw1⟩
  subst w1
  rw [hd.out]
  go_wp2_with fail
  refine (drawPutR_any a len cap zs w HS.out hl).mono ?_
  rintro e w2 ⟨⟨v, rfl, r, A, C, rfl, ho2, hi9, hd25⟩, hb2⟩
  obtain ⟨d, hdd⟩ : ∃ d, r.zs.length = d := ⟨_, rfl⟩
  rw [hdd] at ho2 hd25 ⊢
  have HDl : Hid (r.zs.length = d) := hdd
  clear hdd
  have h23 : Below w2.heap.size w2 (w2.alloc (.cells #[.int .i64 r.e, .int .i64 r.q, .int .i64 r.k, .string r.id, .int .i64 r.n, .slice A d C] 43)) := (Below.refl _ _).alloc (Nat.le_refl _) _
  have HB3 : Hid (Below w.heap.size w (w2.alloc (.cells #[.int .i64 r.e, .int .i64 r.q, .int .i64 r.k, .string r.id, .int .i64 r.n, .slice A d C] 43))) := hb2.trans (h23.mono hb2.size)
  have HR3 : Hid (BoxN (w2.alloc (.cells #[.int .i64 r.e, .int .i64 r.q, .int .i64 r.k, .string r.id, .int .i64 r.n, .slice A d C] 43)) w2.heap.size 43 [.int .i64 r.e, .int .i64 r.q, .int .i64 r.k, .string r.id, .int .i64 r.n, .slice A d C]) := BoxN.new _ _ _
  have HO3 : Hid (Seg (w2.alloc (.cells #[.int .i64 r.e, .int .i64 r.q, .int .i64 r.k, .string r.id, .int .i64 r.n, .slice A d C] 43)) A d r.zs) := ho2.seg.below h23
  clear ho2 hb2 h23
  have c0 := HR3.out.cell 0 rfl
  have c1 := HR3.out.cell 1 rfl
  have c2 := HR3.out.cell 2 rfl
  have c3 := HR3.out.cell 3 rfl
  have c4 := HR3.out.cell 4 rfl
  have c5 := HR3.out.cell 5 rfl
  go_wp2_with fail
  obtain ⟨w3, hw3⟩ : ∃ w3, w2.alloc (.cells #[.int .i64 r.e, .int .i64 r.q, .int .i64 r.k, .string r.id, .int .i64 r.n, .slice A d C] 43) = w3 := ⟨_, rfl⟩
  rw [hw3] at HB3 HR3 HO3 c0 c1 c2 c3 c4 c5 ⊢
  clear hw3
  generalize w2.heap.size = b at *
  refine (implPutR_any r.e r.q r.k r.id r.n A d C r.zs w3 HO3.out (by unfold maxLen; omega) (by omega) (HRT.out _ HB3.out)).mono ?_
  rintro e w4 ⟨rfl, hb4⟩
  have HB4 : Hid (Below w.heap.size w w4) := HB3.out.trans (hb4.mono HB3.out.size)
  have HR4 : Hid (BoxN w4 b 43 [.int .i64 r.e, .int .i64 r.q, .int .i64 r.k, .string r.id, .int .i64 r.n, .slice A d C]) := HR3.out.stays hb4
  have HO4 : Hid (Seg w4 A d r.zs) := HO3.out.below hb4
  clear hb4 HB3 HR3 HO3 c0 c1 c2 c3 c4 c5
  have c0 := HR4.out.cell 0 rfl
  have c1 := HR4.out.cell 1 rfl
  have c2 := HR4.out.cell 2 rfl
  have c3 := HR4.out.cell 3 rfl
  have c4 := HR4.out.cell 4 rfl
  have c5 := HR4.out.cell 5 rfl
  obtain ⟨s, hsT⟩ : ∃ s, putT r.e r.q r.k r.id r.n r.zs = s := ⟨_, rfl⟩
  have HT : Hid (putT r.e r.q r.k r.id r.n r.zs = s) := hsT
  rw [hsT]
  clear hsT
  go_wp2_with fail
  refine (specRok_any r.e r.q r.k r.id r.n A d C w4 (by unfold maxLen; omega) (by omega)).mono ?_
  rintro e w5 ⟨rfl, hb5⟩
  have HB5 : Hid (Below w.heap.size w w5) := HB4.out.trans (hb5.mono HB4.out.size)
  have HR5 : Hid (BoxN w5 b 43 [.int .i64 r.e, .int .i64 r.q, .int .i64 r.k, .string r.id, .int .i64 r.n, .slice A d C]) := HR4.out.stays hb5
  have HO5 : Hid (Seg w5 A d r.zs) := HO4.out.below hb5
  clear hb5 HB4 HR4 HO4 c0 c1 c2 c3 c4 c5
  have c0 := HR5.out.cell 0 rfl
  have c1 := HR5.out.cell 1 rfl
  have c2 := HR5.out.cell 2 rfl
  have c3 := HR5.out.cell 3 rfl
  have c4 := HR5.out.cell 4 rfl
  have c5 := HR5.out.cell 5 rfl
  cases hok : okRec r.e r.q r.k r.id r.n d
  · obtain rfl : s = ⟨#[]⟩ := by rw [← HT.out, putT, HDl.out, hok]; rfl
    go_wp2_with fail
    refine (implRok_any r.e r.q r.k r.id r.n A d C w5 (by unfold maxLen; omega) (by omega) (HRT.out _ HB5.out)).mono ?_
    rintro e w6 ⟨rfl, hb6⟩
    rw [hok]
    have HB6 : Hid (Below w.heap.size w w6) := HB5.out.trans (hb6.mono HB5.out.size)
    clear hb6
    go_wp2_with fail
    go_ret
    exact ⟨rfl, HB6.out⟩
  have HRo : Hid (r.ok = true) := by show R.ok r = true; rw [R.ok, HDl.out]; exact hok
  have HSp : Hid (s = txU r.put) := by show _ = _; rw [← HT.out]; exact putT_ok HRo.out
  have HRz : Hid (∀ x ∈ r.zs, 0 ≤ x ∧ x ≤ 255) := HO5.out.2.1
  have HPl : Hid (s.size = 16 + r.id.size + r.zs.length) := by show _ = _; rw [HSp.out, txU_size, put_len]
  have hss : s.size ≤ 64 ∧ 16 ≤ s.size := by have := HPl.out; rw [HDl.out] at this; have h24 := (okRec_iff hok).2.2.2.2.2; omega
  have HGs : Hid (recOf s = some r) := by show _ = _; rw [HSp.out]; exact rec_back HRo.out HRz.out
  clear hok HT
  go_wp2_with fail
  refine (implGetR_any s w5 (by omega) (HRT.out _ HB5.out)).mono ?_
  rintro e w6 ⟨⟨v, rfl, hgot⟩, hb6⟩
  obtain ⟨A6, C6, rfl, ho6⟩ : ∃ A6 C6, v = .tuple #[.agg #[.int .i64 r.e, .int .i64 r.q, .int .i64 r.k, .string r.id, .int .i64 r.n, .slice A6 d C6], .bool true] ∧ Owns w6 w5.heap.size A6 d C6 r.zs := by
    rcases hgot with ⟨h1, _⟩ | ⟨r', A6, C6, h1, h2, h3⟩
    · rw [HGs.out] at h1; cases h1
    · rw [HGs.out] at h1
      injection h1 with h1
      subst h1
      rw [HDl.out] at h2 h3
      exact ⟨A6, C6, h2, h3⟩
  clear hgot c0 c1 c2 c3 c4 c5
  have h67 : Below w6.heap.size w6 (w6.alloc (.cells #[.int .i64 r.e, .int .i64 r.q, .int .i64 r.k, .string r.id, .int .i64 r.n, .slice A6 d C6] 43)) := (Below.refl _ _).alloc (Nat.le_refl _) _
  have h57 := hb6.trans (h67.mono hb6.size)
  have HB7 : Hid (Below w.heap.size w (w6.alloc (.cells #[.int .i64 r.e, .int .i64 r.q, .int .i64 r.k, .string r.id, .int .i64 r.n, .slice A6 d C6] 43))) := HB5.out.trans (h57.mono HB5.out.size)
  have HR7 : Hid (BoxN (w6.alloc (.cells #[.int .i64 r.e, .int .i64 r.q, .int .i64 r.k, .string r.id, .int .i64 r.n, .slice A6 d C6] 43)) b 43 [.int .i64 r.e, .int .i64 r.q, .int .i64 r.k, .string r.id, .int .i64 r.n, .slice A d C]) := HR5.out.stays h57
  have HX7 : Hid (BoxN (w6.alloc (.cells #[.int .i64 r.e, .int .i64 r.q, .int .i64 r.k, .string r.id, .int .i64 r.n, .slice A6 d C6] 43)) w6.heap.size 43 [.int .i64 r.e, .int .i64 r.q, .int .i64 r.k, .string r.id, .int .i64 r.n, .slice A6 d C6]) := BoxN.new _ _ _
  have HO7 : Hid (Seg (w6.alloc (.cells #[.int .i64 r.e, .int .i64 r.q, .int .i64 r.k, .string r.id, .int .i64 r.n, .slice A6 d C6] 43)) A d r.zs ∧ Seg (w6.alloc (.cells #[.int .i64 r.e, .int .i64 r.q, .int .i64 r.k, .string r.id, .int .i64 r.n, .slice A6 d C6] 43)) A6 d r.zs) := ⟨HO5.out.below h57, ho6.seg.below h67⟩
  clear h67 h57 hb6 ho6 HB5 HR5 HO5
  go_upto_region 8 with fail
  obtain ⟨w7, hw7⟩ : ∃ w7, w6.alloc (.cells #[.int .i64 r.e, .int .i64 r.q, .int .i64 r.k, .string r.id, .int .i64 r.n, .slice A6 d C6] 43) = w7 := ⟨_, rfl⟩
  rw [hw7] at HB7 HR7 HX7 HO7 ⊢
  clear hw7
  generalize w6.heap.size = bx at *
  have hcv := Lib.run_convert_string_bytes (P := Tryd.prog) w7 9 22 5 s (u := .string) Tryd.underlying9 Tryd.underlying22 Tryd.underlying5
  have hbw : Below w7.heap.size w7 (Lib.bytesWorld w7 5 s) := Lib.bytesWorld_below w7 5 s
  have hsg := seg_bytesI w7 s
  have hfz : ∀ I, I < s.size → (Lib.bytesWorld w7 5 s).frozen? ⟨w7.heap.size, I, none⟩ = false := fun I hI => by
    have hle : s.size ≤ (Lib.bytesCells w7 5 s).size := by simp [Lib.bytesCells]
    simp [World.frozen?, Lib.bytesWorld_at_new]
    omega
  obtain ⟨W8, hW8⟩ : ∃ W8, Lib.bytesWorld w7 5 s = W8 := ⟨_, rfl⟩
  obtain ⟨cp, hcpe⟩ : ∃ cp, grownCap w7 s.size 0 5 = cp := ⟨_, rfl⟩
  rw [hW8] at hcv hbw hsg hfz
  rw [hcpe] at hcv
  have HZ8 : Hid (W8.heap.size = w7.heap.size + 1) := by show _ = _; rw [← hW8, Lib.bytesWorld_size]
  clear hW8 hcpe
  have HB8 : Hid (Below w.heap.size w W8) := HB7.out.trans (hbw.mono HB7.out.size)
  have HR8 : Hid (BoxN W8 b 43 [.int .i64 r.e, .int .i64 r.q, .int .i64 r.k, .string r.id, .int .i64 r.n, .slice A d C]) := HR7.out.stays hbw
  have HX8 : Hid (BoxN W8 bx 43 [.int .i64 r.e, .int .i64 r.q, .int .i64 r.k, .string r.id, .int .i64 r.n, .slice A6 d C6]) := HX7.out.stays hbw
  have HO8 : Hid (Seg W8 A d r.zs ∧ Seg W8 A6 d r.zs) := ⟨HO7.out.1.below hbw, HO7.out.2.below hbw⟩
  have HSg : Hid (Seg W8 (some ⟨w7.heap.size, 0, none⟩) s.size (txI s)) := hsg
  have HFz : Hid (∀ I, I < s.size → W8.frozen? ⟨w7.heap.size, I, none⟩ = false) := hfz
  have HSc : Hid (Seg W8 a len zs) := HS.out.below HB8.out
  have hbx7 : bx < w7.heap.size := HX7.out.lt
  have hb7 : b < w7.heap.size := HR7.out.lt
  have hww : w.heap.size ≤ w7.heap.size := HB7.out.size
  have HF7 : Hid (∀ W, Below w7.heap.size w7 W → Seg W A d r.zs ∧ Seg W A6 d r.zs) := fun W h => ⟨HO7.out.1.below h, HO7.out.2.below h⟩
  have H78 : Hid (Below w7.heap.size w7 W8) := hbw
  clear hbw hsg hfz HB7 HR7 HX7 HO7
  generalize w7.heap.size = rb at *
  go_upto_region 9 with fail
  clear hcv
  obtain ⟨k2, hk2, at2⟩ := at_fix a len cap 2 2 rfl zs HSc.out.2.1 hl (by omega)
  obtain ⟨k3, hk3, at3⟩ := at_fix a len cap 3 3 rfl zs HSc.out.2.1 hl (by omega)
  have HA2 := (show Hid _ from at2 W8.drew (HSc.out.below (Below.refl _ _).drew))
  have HA3 := (show Hid _ from at3 W8.drew (HSc.out.below (Below.refl _ _).drew))
  clear at2 at3
  obtain ⟨I, hI⟩ : ∃ I : Nat, I + 1 + k2 % 4 = s.size := ⟨s.size - 1 - k2 % 4, by omega⟩
  have hI2 : s.size ≤ I + 4 := by omega
  have hI1 : I < s.size := by omega
  have hIi : (s.size : Int) - 1 - (k2 : Int) % 4 = (I : Int) := by omega
  have hX : W8.drew.cell? ⟨rb, I, none⟩ = some (.int .u8 ((txI s).getD I 0)) := seg_cell HSg.out hI1
  have hF : W8.drew.frozen? ⟨rb, I, none⟩ = false := HFz.out I hI1
  have hsz : (s.size : Int) ≤ 64 := by omega
  have hsz2 : (16 : Int) ≤ (s.size : Int) := by omega
  have hXr := HSg.out.range I
  generalize hXv : (txI s).getD I 0 = X at *
  have HXv : Hid ((txI s).getD I 0 = X) := hXv
  obtain ⟨hX0, hX1⟩ := hXr
  clear hXv
  have hIw : IntKind.i64.wrap (IntKind.i64.wrap ((s.size : Int) - 1) - (k2 : Int).tmod 4) = (I : Int) := by
    have e1 : (k2 : Int).tmod 4 = (k2 : Int) % 4 := Int.tmod_eq_emod_of_nonneg (by omega)
    rw [e1, IntWalk.i64_in ((s.size : Int) - 1) (by omega), IntWalk.i64_in _ (by omega)]
    omega
  have hIi0 : (0 : Int) ≤ (I : Int) := by omega
  have hIi1 : (I : Int) < (s.size : Int) := by omega
  refine wp_region_still_tail 16 (by kernel_rfl) (by kernel_rfl) ?_
  simp only [List.take_succ_cons, List.take_zero, List.drop_succ_cons, List.drop_zero]
  repeat still_step
  still_call HA2.out
  repeat still_step
  still_call HA3.out
  repeat still_step
  refine wpStill_nil ?_
  go_upto_region 10 with fail
  obtain ⟨hv0, hv1, hvn⟩ := xor_turns X hX0 hX1 k3
  generalize bits .xor .u8 X (2 ^ min (k3 % 8) 8 % 256) = Xn at *
  have hbs : Below W8.heap.size W8 W8 := Below.refl _ _
  have HSt : Hid (Seg (W8.setCell ⟨rb, I, none⟩ (.int .u8 Xn)).drew (some ⟨rb, 0, none⟩) s.size ((txI s).set I Xn)) := (seg_put HSg.out hI1 Xn ⟨hv0, hv1⟩).below (Below.refl _ _).drew
  have HB9 : Hid (Below w.heap.size w (W8.setCell ⟨rb, I, none⟩ (.int .u8 Xn)).drew) := (HB8.out.setCell (by dsimp only; omega) _).drew
  have HR9 : Hid (BoxN (W8.setCell ⟨rb, I, none⟩ (.int .u8 Xn)).drew b 43 [.int .i64 r.e, .int .i64 r.q, .int .i64 r.k, .string r.id, .int .i64 r.n, .slice A d C]) := HR8.out.other (by omega) _
  have HX9 : Hid (BoxN (W8.setCell ⟨rb, I, none⟩ (.int .u8 Xn)).drew bx 43 [.int .i64 r.e, .int .i64 r.q, .int .i64 r.k, .string r.id, .int .i64 r.n, .slice A6 d C6]) := HX8.out.other (by omega) _
  have HNo : Hid (recOf (txU ((txI s).set I Xn)) = none) := turned_none HRo.out HRz.out HSp.out hI1 hI2 ⟨hv0, hv1⟩ (by rw [HXv.out]; exact hvn)
  have HTz : Hid ((txU ((txI s).set I Xn)).size = s.size) := by show _ = _; rw [txU_size, List.length_set, txI_len]
  have HD9 : Hid (Seg (W8.setCell ⟨rb, I, none⟩ (.int .u8 Xn)).drew A d r.zs ∧ Seg (W8.setCell ⟨rb, I, none⟩ (.int .u8 Xn)).drew A6 d r.zs) := HF7.out _ (H78.out.setCell (Nat.le_refl _) _).drew
  obtain ⟨W9, hW9⟩ : ∃ W9, (W8.setCell ⟨rb, I, none⟩ (.int .u8 Xn)).drew = W9 := ⟨_, rfl⟩
  rw [hW9] at HSt HB9 HR9 HX9 HD9 ⊢
  clear hW9 HB8 HR8 HX8 HO8 HSg HFz HSc hX hF HA2 HA3 hIw
  have hcv := conv_txt (c := cp) HSt.out
  generalize txU ((txI s).set I Xn) = t at *
  have htz : t.size ≤ 64 := by have := HTz.out; omega
  go_wp2_with fail
  refine (implGetR_any t W9 (by omega) (HRT.out _ HB9.out)).mono ?_
  rintro e W10 ⟨⟨v, rfl, hgot⟩, hb10⟩
  obtain rfl : v = .tuple #[.agg #[.int .i64 0, .int .i64 0, .int .i64 0, .string ⟨#[]⟩, .int .i64 0, .slice none 0 0], .bool false] := by
    rcases hgot with ⟨_, h2⟩ | ⟨r', A', C', h1, _, _⟩
    · exact h2
    · rw [HNo.out] at h1; cases h1
  have hb11 := (Below.refl W10.heap.size W10).alloc (Nat.le_refl _) (.cells #[.int .i64 0, .int .i64 0, .int .i64 0, .string ⟨#[]⟩, .int .i64 0, .slice none 0 0] 43)
  have h911 := hb10.trans (hb11.mono hb10.size)
  have HB11 : Hid (Below w.heap.size w (W10.alloc (.cells #[.int .i64 0, .int .i64 0, .int .i64 0, .string ⟨#[]⟩, .int .i64 0, .slice none 0 0] 43))) := HB9.out.trans (h911.mono HB9.out.size)
  have HR11 : Hid (BoxN (W10.alloc (.cells #[.int .i64 0, .int .i64 0, .int .i64 0, .string ⟨#[]⟩, .int .i64 0, .slice none 0 0] 43)) b 43 [.int .i64 r.e, .int .i64 r.q, .int .i64 r.k, .string r.id, .int .i64 r.n, .slice A d C]) := HR9.out.stays h911
  have HX11 : Hid (BoxN (W10.alloc (.cells #[.int .i64 0, .int .i64 0, .int .i64 0, .string ⟨#[]⟩, .int .i64 0, .slice none 0 0] 43)) bx 43 [.int .i64 r.e, .int .i64 r.q, .int .i64 r.k, .string r.id, .int .i64 r.n, .slice A6 d C6]) := HX9.out.stays h911
  have HD11 : Hid (Seg (W10.alloc (.cells #[.int .i64 0, .int .i64 0, .int .i64 0, .string ⟨#[]⟩, .int .i64 0, .slice none 0 0] 43)) A d r.zs ∧ Seg (W10.alloc (.cells #[.int .i64 0, .int .i64 0, .int .i64 0, .string ⟨#[]⟩, .int .i64 0, .slice none 0 0] 43)) A6 d r.zs) := ⟨HD9.out.1.below h911, HD9.out.2.below h911⟩
  clear hgot hcv hb10 hb11 h911 HB9 HR9 HX9 HD9 HSt
  go_upto_region 11 with fail
  obtain ⟨W11, hW11⟩ : ∃ W11, W10.alloc (.cells #[.int .i64 0, .int .i64 0, .int .i64 0, .string ⟨#[]⟩, .int .i64 0, .slice none 0 0] 43) = W11 := ⟨_, rfl⟩
  rw [hW11] at HB11 HR11 HX11 HD11 ⊢
  clear hW11
  obtain ⟨c0, c1, c2, c3, c4, c5⟩ := (show _ ∧ _ ∧ _ ∧ _ ∧ _ ∧ _ from ⟨HR11.out.cell 0 rfl, HR11.out.cell 1 rfl, HR11.out.cell 2 rfl, HR11.out.cell 3 rfl, HR11.out.cell 4 rfl, HR11.out.cell 5 rfl⟩)
  obtain ⟨z0, z1, z2, z3, z4, z5⟩ := (show _ ∧ _ ∧ _ ∧ _ ∧ _ ∧ _ from ⟨HX11.out.cell 0 rfl, HX11.out.cell 1 rfl, HX11.out.cell 2 rfl, HX11.out.cell 3 rfl, HX11.out.cell 4 rfl, HX11.out.cell 5 rfl⟩)
  go_wp2_with fail
  refine (sameB_same A6 A d C6 C r.zs W11 HD11.out.2 HD11.out.1 (by omega)).mono ?_
  rintro e W12 ⟨rfl, nn, rfl⟩
  have HB12 : Hid (Below w.heap.size w (W11.drewN nn)) := below_drewN HB11.out nn
  go_wp2_with fail
  go_ret
  exact ⟨rfl, HB12.out⟩

end Go.Proofs.YtenkpgnkkkgdmaeDoor
