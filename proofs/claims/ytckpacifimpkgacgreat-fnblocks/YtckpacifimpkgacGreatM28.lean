/- What the specification's PutPrefix answers, whatever its arguments. For lists of at most 2^40 bytes that are not nil. What the specification's PutString answers. For lists of at most 2^40 bytes and texts of at most 2^24. The specification's FindField. What the specification's PutField answers. What the specification's PutFields answers. -/
import Derived.Test.YtckpacifimpkgacGreatM27
import Derived.Test.YtckpacifimpkgacGreatM27
import Derived.Test.YtckpacifimpkgacGreatM03
import Derived.Test.YtckpacifimpkgacGreatM21
import Derived.Test.YtckpacifimpkgacGreatM08
import Derived.Lib.Strings
import Derived.Test.YtckpacifimpkgacGreatM12
import Derived.Test.YtckpacifimpkgacGreatM23
import Derived.Test.YtckpacifimpkgacGreatM22
import Derived.Test.YtckpacifimpkgacGreatM23
import Derived.Test.YtckpacifimpkgacGreatM14
import Derived.Deep.RegionWith
import Derived.Deep.RegionHeld3
import Derived.Deep.Cut
namespace Go.Proofs.YtckpacifimpkgacGreat
open Go.RowKit
set_option linter.unusedVariables false

theorem specPfx_any (b off len cap : Nat) (bits first n : Int) (zs : List Int) (w : World) (hs : Seg w (some ⟨b, off, none⟩) len zs) (hl : len ≤ 1099511627776) :
    Calls Tryz.prog 22 #[.slice (some ⟨b, off, none⟩) len cap, .int .i64 bits, .int .i64 first, .int .i64 n] w fun e w' => ∃ a' cap', e = .returned (.slice a' (putPfx zs bits first n).length cap') ∧ Owns w' w.heap.size a' (putPfx zs bits first n).length cap' (putPfx zs bits first n) ∧ Below w.heap.size w w' := by
  by_cases h : 1 ≤ bits ∧ bits ≤ 8 ∧ 0 ≤ first ∧ first ≤ 255
  · obtain ⟨B, rfl⟩ := Int.eq_ofNat_of_zero_le (show 0 ≤ bits by omega)
    obtain ⟨F, rfl⟩ := Int.eq_ofNat_of_zero_le (show 0 ≤ first by omega)
    have e : putPfx zs B F n = zs ++ pfx B F (min n 16777216).toNat := by rw [putPfx, if_pos h, Int.toNat_natCast, Int.toNat_natCast]
    rw [e]
    by_cases h0 : n < 0
    · rw [show (min n 16777216).toNat = 0 by omega]
      exact specPfx_neg b off len cap B F n zs w hs hl (by omega) (by omega) (by omega) h0
    · by_cases h2 : 16777216 < n
      · rw [show (min n 16777216).toNat = 16777216 by omega]
        exact specPfx_top b off len cap B F 16777216 n rfl zs w hs hl (by omega) (by omega) (by omega) h2
      · obtain ⟨M, rfl⟩ := Int.eq_ofNat_of_zero_le (show 0 ≤ n by omega)
        rw [show (min (M : Int) 16777216).toNat = M by omega]
        exact specPfx_yes b off len cap B F M zs w hs hl (by omega) (by omega) (by omega) (by omega)
  · have e : putPfx zs bits first n = zs := by rw [putPfx, if_neg h, List.append_nil]
    rw [e, hs.1]
    exact specPfx_no b off len cap bits first n zs w hs hl h

end Go.Proofs.YtckpacifimpkgacGreat

namespace Go.Proofs.YtckpacifimpkgacGreat
open Go.RowKit
set_option linter.unusedVariables false

set_option maxRecDepth 10000 in
set_option maxHeartbeats 800000 in
theorem specPutS_any (b off len cap : Nat) (s : ByteArray) (zs : List Int) (w : World) (hs : Seg w (some ⟨b, off, none⟩) len zs) (hl : len ≤ 1099511627776) (hsl : s.size ≤ 16777216) :
    Calls Tryz.prog 66 #[.slice (some ⟨b, off, none⟩) len cap, .string s] w fun e w' => ∃ (q : List Int) (a' : Option Addr) (cap' : Nat), StrOf s q ∧ e = .returned (.slice a' (zs ++ q).length cap') ∧ Owns w' w.heap.size a' (zs ++ q).length cap' (zs ++ q) ∧ Below w.heap.size w w' := by
  obtain ⟨i0, hi, hz0, hz1, hz2⟩ := info_parts Tryz.info5
  have HS : Hid (Seg w (some ⟨b, off, none⟩) len zs) := hs
  have hzl : zs.length = len := hs.1
  clear hs
  go_enter Tryz.func66, Tryz.ntmps66
  go_wp2_with fail
  refine (specHuff_any s _ (by omega)).mono ?_
  rintro e w1 ⟨o, a1, c1, rfl, ow1, hf1, hb1⟩
  have HB1 : Hid (Below w.heap.size w w1) := hb1
  obtain ⟨n, hn⟩ : ∃ n : Nat, (bitLen s.data.toList + 7) / 8 = n := ⟨_, rfl⟩
  have HE : Hid ((bitLen s.data.toList + 7) / 8 = n) := hn
  have hol : o.length = n := by rw [hf1.len, hn]
  have HOL : Hid (o.length = n) := hol
  have HF : Hid (HuffOf s.data.toList o) := hf1
  have HH1 : Hid (Owns w1 w.heap.size a1 n c1 o) := by rw [← hol]; exact ow1
  rw [hol]
  clear hb1 hn hol hf1 ow1
  by_cases hlt : n < s.size
  · have hd : decide ((n : Int) < (s.size : Int)) = true := by simp; omega
    have hdp : ((n : Int) < (s.size : Int)) = True := by simp; omega
    go_wp2_with fail
    refine (specPfx_any b off len cap 7 128 (n : Int) zs _ (HS.out.below HB1.out) hl).mono ?_
    rintro e w2 ⟨a2, c2, rfl, ow2, hb2⟩
    have hmin : putPfx zs 7 128 (n : Int) = zs ++ pfx 7 128 n := by
      rw [putPfx, if_pos (by decide)]
      congr 2
      omega
    rw [hmin] at ow2 ⊢
    clear hmin
    have HH2 : Hid (Owns w2 w.heap.size a1 n c1 o) := HH1.out.below hb2
    have hpl : 0 < (pfx 7 128 n).length := by unfold pfx; split <;> simp
    have hpl6 := pfx_len 7 128 n
    obtain ⟨g, rfl, hg1, hg2⟩ := ow2.some (by rw [List.length_append]; omega)
    have HO2 : Hid (Owns w2 w1.heap.size (some ⟨g, 0, none⟩) (zs ++ pfx 7 128 n).length c2 (zs ++ pfx 7 128 n)) := ow2
    have HB2 : Hid (Below w.heap.size w w2) := HB1.out.trans (hb2.mono HB1.out.size)
    have HZ1 : Hid (w.heap.size ≤ w1.heap.size) := HB1.out.size
    clear ow2 hb2 HB1
    have hll : (zs ++ pfx 7 128 n).length = len + (pfx 7 128 n).length := by rw [List.length_append, hzl]
    have HR : Hid (∀ x ∈ zs ++ pfx 7 128 n, 0 ≤ x ∧ x ≤ 255) := HO2.out.2
    generalize hP : zs ++ pfx 7 128 n = P at *
    have HP : Hid (zs ++ pfx 7 128 n = P) := hP
    clear hP
    generalize hpn : P.length = pn at *
    have hpb : pn ≤ len + 6 := by omega
    have HPn : Hid (P.length = pn) := hpn
    clear hpn hll hpl hpl6
    have HSrc : Hid (Src Tryz.prog 1 22 (.slice a1 n c1) n (o.map (Value.int .u8)) w2) := Src.ofSeg Tryz.underlying22 HH2.out.seg HH2.out.none
    have HBs : Hid (w1.heap.size ≤ w2.heap.size) := by have h1 := (HO2.out.lt g rfl); show _ ≤ _; omega
    have hA : pn + n ≤ maxLen := by unfold maxLen; omega
    have hA2 : (pn + n) * 1 ≤ 140737488355328 := by omega
    go_wp2_with (at_builtin; refine wpList_append_any rfl _ _ 22 22 rfl w1.heap.size 5 i0 (.int .u8 0) 1 1 Tryz.underlying22 hi hz0 hz1 hz2 rfl (by decide) g pn c2 (P.map (Value.int .u8)) rfl HO2.out.1 (.slice a1 n c1) n (o.map (Value.int .u8)) rfl HSrc.out hA hA2 HBs.out ?_; intro v4 w4 hown hgrow; refine Hid.out ?_)
    refine hidden ?_
    obtain ⟨a4, c4, rfl⟩ := shape_of_owns hown
    have HB4 : Hid (Below w.heap.size w w4) := HB2.out.grown hgrow (by have := HB2.out.size; omega) (fun k hk => by injection hk with hk; have := HZ1.out; omega)
    have HO4 : Hid (w4.ownsRow w1.heap.size 5 1 (.slice a4 (pn + n) c4) (pn + n) (P.map (Value.int .u8) ++ o.map (Value.int .u8))) := hown
    clear hown hgrow HO2 HSrc HB2
    go_wp2_with fail
    go_ret
    refine ⟨pfx 7 128 n ++ o, a4, c4, by rw [StrOf, HE.out]; exact .inl ⟨hlt, o, HF.out, by rw [HOL.out]⟩, ?_, ⟨?_, ?_⟩, HB4.out⟩
    · rw [← List.append_assoc, HP.out, List.length_append, HPn.out, HOL.out]
      rfl
    · rw [← List.append_assoc, HP.out, List.length_append, HPn.out, HOL.out, List.map_append]
      exact own_lower HO4.out HZ1.out
    · intro x hx
      rw [← List.append_assoc, HP.out] at hx
      rcases List.mem_append.1 hx with hx | hx
      · exact HR.out x hx
      · exact HF.out.1 x hx
  · have hd : decide ((n : Int) < (s.size : Int)) = false := by simp; omega
    have hdp : ((n : Int) < (s.size : Int)) = False := by simp; omega
    go_wp2_with fail
    refine (specPfx_any b off len cap 7 0 (s.size : Int) zs _ (HS.out.below HB1.out) hl).mono ?_
    rintro e w2 ⟨a2, c2, rfl, ow2, hb2⟩
    have hmin : putPfx zs 7 0 (s.size : Int) = zs ++ pfx 7 0 s.size := by
      rw [putPfx, if_pos (by decide)]
      congr 2
      omega
    rw [hmin] at ow2 ⊢
    clear hmin
    have hpl : 0 < (pfx 7 0 s.size).length := by unfold pfx; split <;> simp
    have hpl6 := pfx_len 7 0 s.size
    obtain ⟨g, rfl, hg1, hg2⟩ := ow2.some (by rw [List.length_append]; omega)
    have HO2 : Hid (Owns w2 w1.heap.size (some ⟨g, 0, none⟩) (zs ++ pfx 7 0 s.size).length c2 (zs ++ pfx 7 0 s.size)) := ow2
    have HB2 : Hid (Below w.heap.size w w2) := HB1.out.trans (hb2.mono HB1.out.size)
    have HZ1 : Hid (w.heap.size ≤ w1.heap.size) := HB1.out.size
    clear ow2 hb2 HB1
    have hll : (zs ++ pfx 7 0 s.size).length = len + (pfx 7 0 s.size).length := by rw [List.length_append, hzl]
    have HR : Hid (∀ x ∈ zs ++ pfx 7 0 s.size, 0 ≤ x ∧ x ≤ 255) := HO2.out.2
    have HBs : Hid (w1.heap.size ≤ w2.heap.size) := by have h1 := (HO2.out.lt g rfl); show _ ≤ _; omega
    generalize hP : zs ++ pfx 7 0 s.size = P at *
    have HP : Hid (zs ++ pfx 7 0 s.size = P) := hP
    clear hP
    generalize hpn : P.length = pn at *
    have hpb : pn ≤ len + 6 := by omega
    have HPn : Hid (P.length = pn) := hpn
    clear hpn hll hpl hpl6
    have HSrc : Hid (Src Tryz.prog 1 9 (.string s) s.size (byteCells s) w2) := Src.ofString w2 Tryz.underlying9 s
    have hA : pn + s.size ≤ maxLen := by unfold maxLen; omega
    have hA2 : (pn + s.size) * 1 ≤ 140737488355328 := by omega
    go_wp2_with (at_builtin; refine wpList_append_any rfl _ _ 22 9 rfl w1.heap.size 5 i0 (.int .u8 0) 1 1 Tryz.underlying22 hi hz0 hz1 hz2 rfl (by decide) g pn c2 (P.map (Value.int .u8)) rfl HO2.out.1 (.string s) s.size (byteCells s) rfl HSrc.out hA hA2 HBs.out ?_; intro v4 w4 hown hgrow; refine Hid.out ?_)
    refine hidden ?_
    obtain ⟨a4, c4, rfl⟩ := shape_of_owns hown
    have HB4 : Hid (Below w.heap.size w w4) := HB2.out.grown hgrow (by have := HB2.out.size; omega) (fun k hk => by injection hk with hk; have := HZ1.out; omega)
    have HO4 : Hid (w4.ownsRow w1.heap.size 5 1 (.slice a4 (pn + s.size) c4) (pn + s.size) (P.map (Value.int .u8) ++ byteCells s)) := hown
    clear hown hgrow HO2 HSrc HB2
    go_wp2_with fail
    go_ret
    refine ⟨pfx 7 0 s.size ++ asInts s.data.toList, a4, c4, by rw [StrOf, HE.out]; exact .inr ⟨hlt, rfl⟩, ?_, ⟨?_, ?_⟩, HB4.out⟩
    · rw [← List.append_assoc, HP.out, List.length_append, HPn.out, asInts_len, str_len]
      rfl
    · rw [← List.append_assoc, HP.out, List.length_append, HPn.out, asInts_len, str_len, List.map_append, ← byteCells_ints]
      exact own_lower HO4.out HZ1.out
    · intro x hx
      rw [← List.append_assoc, HP.out] at hx
      rcases List.mem_append.1 hx with hx | hx
      · exact HR.out x hx
      · exact asInts_range _ x hx

end Go.Proofs.YtckpacifimpkgacGreat

namespace Go.Proofs.YtckpacifimpkgacGreat
open Go.RowKit
set_option linter.unusedVariables false

set_option maxRecDepth 10000 in
set_option maxHeartbeats 3200000 in
theorem specFind_any (m : Int) (a : Option Addr) (len ca : Nat) (xs : List Fld) (x y : ByteArray) (w : World) (hx : Flds w a len xs) (hl : len ≤ 2097152) :
    Calls Tryz.prog 64 #[.agg #[.int .i64 m, .slice a len ca], .agg #[.string x, .string y]] w fun e w' => ∃ i b, e = .returned (.tuple #[.int .i64 i, .bool b]) ∧ FindAns (firstL ++ xs) (x, y) i b ∧ Below w.heap.size w w' := by
  have HX : Hid (Flds w a len xs) := hx
  have hlen := hx.1
  clear hx
  obtain ⟨w2, hw2⟩ : ∃ w2, (w.alloc (.cells #[.int .i64 m, .slice a len ca] 26)).alloc (.cells #[.string x, .string y] 43) = w2 := ⟨_, rfl⟩
  have hq1 : w2.heap[w.heap.size]? = some (.cells #[.int .i64 m, .slice a len ca] 26 (0, 0)) := by
    rw [← hw2]
    have h1 := heap_alloc_new w (.cells #[.int .i64 m, .slice a len ca] 26)
    have hlt : w.heap.size < (w.alloc (.cells #[.int .i64 m, .slice a len ca] 26)).heap.size := by simp
    exact (((Below.refl _ _).alloc (Nat.le_refl _) (.cells #[.string x, .string y] 43)).block _ hlt).trans h1
  have hq2 : w2.heap[w.heap.size + 1]? = some (.cells #[.string x, .string y] 43 (0, 0)) := by
    rw [← hw2]
    have h1 := heap_alloc_new (w.alloc (.cells #[.int .i64 m, .slice a len ca] 26)) (.cells #[.string x, .string y] 43)
    rw [World.size_alloc] at h1
    exact h1
  have HB2 : Hid (Below w.heap.size w w2) := by show Below _ _ _; rw [← hw2]; exact ((Below.refl _ _).alloc (Nat.le_refl _) _).alloc (by simp) _
  have HW2 : Hid (w2.heap.size = w.heap.size + 2) := by show _ = _; rw [← hw2]; simp
  go_enter Tryz.func64, Tryz.ntmps64
  go_wp2_with fail
  refine (specFirst_any w2).mono ?_
  rintro e w3 ⟨rfl, hf3, hb3⟩
  have HT : Hid (∀ W, Below w3.heap.size w3 W → W.heap[w.heap.size]? = some (.cells #[.int .i64 m, .slice a len ca] 26 (0, 0)) ∧ W.heap[w.heap.size + 1]? = some (.cells #[.string x, .string y] 43 (0, 0)) ∧ Below w.heap.size w W ∧ Flds W a len xs ∧ Flds W (some ⟨w2.heap.size, 0, none⟩) 61 firstL) := by
    intro W hW
    have h2 := HW2.out
    have h3 := hb3.size
    have hb : Below w2.heap.size w2 W := hb3.trans (hW.mono h3)
    have hbw := HB2.out.trans (hb.mono HB2.out.size)
    exact ⟨(hb.block _ (by omega)).trans hq1, (hb.block _ (by omega)).trans hq2, hbw, HX.out.below hbw, hf3.below hW⟩
  clear hq1 hq2 hf3 hb3 hw2
  generalize w2.heap.size = gF at *
  have hL : (firstL ++ xs).length = 61 + len := by rw [List.length_append, firstL_len, hlen]
  go_wp2_with fail
  go_loopw [7, 8] (fun nm i wr => ∃ (k : Nat) (n : Int), k ≤ 61 + len ∧ i = .int .i64 ((k : Int) + 1) ∧ nm = .int .i64 n ∧ 0 ≤ n ∧ n ≤ 4000000 ∧ Hid (∀ j, j < k → (firstL ++ xs)[j]? ≠ some (x, y)) ∧ Hid (NameAt (firstL ++ xs) (x, y) k n) ∧ Hid (Below w3.heap.size w3 wr)) (fun _ i _ => 62 + len - (intOf i).toNat)
  case atStart => exact ⟨0, 0, Nat.zero_le _, rfl, rfl, by omega, by omega, by intro j hj; omega, .inl ⟨rfl, by intro j g hj; omega⟩, Below.refl _ _⟩
  case round =>
    obtain ⟨k, n, hk, rfl, rfl, hn0, hn1, HNo, HNm, HB⟩ := hrel
    obtain ⟨t1, t2, t3, t4, t5⟩ := HT.out wr HB.out
    obtain ⟨c0, c1, _, _⟩ := two_cells t1
    have hws : w.heap.size < wr.heap.size := (Array.getElem?_eq_some_iff.1 t1).1
    obtain ⟨c2, c3, _, _⟩ := two_cells t2
    by_cases hlt : k < 61 + len
    · have hki : (k : Int) + 1 ≤ 61 + (len : Int) := by omega
      by_cases h61 : k < 61
      · obtain ⟨b, off, x1, y1, he, hbb, hfx, d0, d1⟩ := t5.at h61
        injection he with he
        injection he with e1 e2 _
        subst e1 e2
        have hk6 : (k : Int) + 1 ≤ 61 := by omega
        have hk7 : (k : Int) < 61 := by omega
        have HL : Hid ((firstL ++ xs)[k]? = some (x1, y1)) := by
          show _ = _
          rw [List.getElem?_append_left (by rw [firstL_len]; exact h61)]
          exact hfx
        rw [Nat.zero_add] at d0
        rw [Nat.zero_add] at d1
        clear hfx t1 t2 t4 t5
        have HB3 : Hid (Below w.heap.size w wr) := t3
        clear t3
        obtain ⟨W1, hW1⟩ : ∃ W1, wr.alloc (.cells #[.string x1, .string y1] 43) = W1 := ⟨_, rfl⟩
        have hB1 : Below wr.heap.size wr W1 := by rw [← hW1]; exact (Below.refl _ _).alloc (Nat.le_refl _) _
        have HB1 : Hid (Below w3.heap.size w3 W1) := HB.out.trans (hB1.mono HB.out.size)
        obtain ⟨v1, v2, v3, v4, v5⟩ := HT.out W1 HB1.out
        obtain ⟨f2, f3, _, _⟩ := two_cells v2
        have hxb : W1.heap[wr.heap.size]? = some (.cells #[.string x1, .string y1] 43 (0, 0)) := by rw [← hW1]; exact heap_alloc_new wr _
        obtain ⟨f0, f1, _, _⟩ := two_cells hxb
        have HBw : Hid (Below w.heap.size w W1) := v3
        clear v1 v2 v3 v4 v5 hB1 hxb
        by_cases hxx : x1 = x
        · subst hxx
          by_cases hyy : y1 = y
          · subst hyy
            go_wp2_with fail
            refine bodyPost_ret (v := .tuple #[.int .i64 ((k : Int) + 1), .bool true]) (by simp [results, Tryz.f64, go_sem]) rfl ?_
            exact ⟨_, .inr ⟨rfl, .inl ⟨rfl, k, HL.out, HNo.out, rfl⟩, HBw.out⟩⟩
          · have hyl : ¬ y1.toList = y.toList := fun e => hyy (bytes_inj e)
            have hyb : (y1.toList == y.toList) = false := by simp [hyl]
            have HNo2 : Hid (∀ j, j < k + 1 → (firstL ++ xs)[j]? ≠ some (x1, y)) := no_next HNo.out HL.out (fun e => hyy (by injection e))
            by_cases hn : n = 0
            · subst hn
              have HN2 : Hid (NameAt (firstL ++ xs) (x1, y) (k + 1) ((k : Int) + 1)) := HNm.out.hit HL.out rfl
              go_wp2_with fail
              go_roundw
              case rel => exact ⟨k + 1, (k : Int) + 1, by omega, by go_num, rfl, by omega, by omega, HNo2, HN2, HB1⟩
              case measure => simp [intOf]; omega
            · have HN2 : Hid (NameAt (firstL ++ xs) (x1, y) (k + 1) n) := HNm.out.keep hn
              go_wp2_with fail
              go_roundw
              case rel => exact ⟨k + 1, n, by omega, by go_num, rfl, hn0, hn1, HNo2, HN2, HB1⟩
              case measure => simp [intOf]; omega
        · have hxl : ¬ x1.toList = x.toList := fun e => hxx (bytes_inj e)
          have hxb : (x1.toList == x.toList) = false := by simp [hxl]
          have HNo2 : Hid (∀ j, j < k + 1 → (firstL ++ xs)[j]? ≠ some (x, y)) := no_next HNo.out HL.out (fun e => hxx (by injection e))
          have HN2 : Hid (NameAt (firstL ++ xs) (x, y) (k + 1) n) := HNm.out.miss HL.out hxx
          by_cases hn : n = 0
          · subst hn
            go_wp2_with fail
            go_roundw
            case rel => exact ⟨k + 1, 0, by omega, by go_num, rfl, by omega, by omega, HNo2, HN2, HB1⟩
            case measure => simp [intOf]; omega
          · go_wp2_with fail
            go_roundw
            case rel => exact ⟨k + 1, n, by omega, by go_num, rfl, hn0, hn1, HNo2, HN2, HB1⟩
            case measure => simp [intOf]; omega
      · obtain ⟨kk, rfl⟩ : ∃ kk, k = kk + 61 := ⟨k - 61, by omega⟩
        obtain ⟨b, off, x1, y1, rfl, hbb, hfx, d0, d1⟩ := t4.at (k := kk) (by omega)
        have hk6 : ¬ (((kk + 61 : Nat) : Int) + 1 ≤ 61) := by omega
        have hk6d : decide (((kk + 61 : Nat) : Int) + 1 ≤ 61) = false := by simp; omega
        have hk62 : ((kk + 61 : Nat) : Int) + 1 - 62 = (kk : Int) := by omega
        have hk63 : ((kk + 61 : Nat) : Int) - 61 = (kk : Int) := by omega
        have hkl : (kk : Int) < (len : Int) := by omega
        have HL : Hid ((firstL ++ xs)[kk + 61]? = some (x1, y1)) := by
          show _ = _
          rw [List.getElem?_append_right (by rw [firstL_len]; omega), firstL_len, Nat.add_sub_cancel]
          exact hfx
        clear hfx t1 t2 t4 t5
        have HB3 : Hid (Below w.heap.size w wr) := t3
        clear t3
        generalize hkk : kk + 61 = k at *
        obtain ⟨W1, hW1⟩ : ∃ W1, wr.alloc (.cells #[.string x1, .string y1] 43) = W1 := ⟨_, rfl⟩
        have hB1 : Below wr.heap.size wr W1 := by rw [← hW1]; exact (Below.refl _ _).alloc (Nat.le_refl _) _
        have HB1 : Hid (Below w3.heap.size w3 W1) := HB.out.trans (hB1.mono HB.out.size)
        obtain ⟨v1, v2, v3, v4, v5⟩ := HT.out W1 HB1.out
        obtain ⟨f2, f3, _, _⟩ := two_cells v2
        have hxb : W1.heap[wr.heap.size]? = some (.cells #[.string x1, .string y1] 43 (0, 0)) := by rw [← hW1]; exact heap_alloc_new wr _
        obtain ⟨f0, f1, _, _⟩ := two_cells hxb
        have HBw : Hid (Below w.heap.size w W1) := v3
        clear v1 v2 v3 v4 v5 hB1 hxb
        by_cases hxx : x1 = x
        · subst hxx
          by_cases hyy : y1 = y
          · subst hyy
            go_wp2_with fail
            refine bodyPost_ret (v := .tuple #[.int .i64 ((k : Int) + 1), .bool true]) (by simp [results, Tryz.f64, go_sem]) rfl ?_
            exact ⟨_, .inr ⟨rfl, .inl ⟨rfl, k, HL.out, HNo.out, rfl⟩, HBw.out⟩⟩
          · have hyl : ¬ y1.toList = y.toList := fun e => hyy (bytes_inj e)
            have hyb : (y1.toList == y.toList) = false := by simp [hyl]
            have HNo2 : Hid (∀ j, j < k + 1 → (firstL ++ xs)[j]? ≠ some (x1, y)) := no_next HNo.out HL.out (fun e => hyy (by injection e))
            by_cases hn : n = 0
            · subst hn
              have HN2 : Hid (NameAt (firstL ++ xs) (x1, y) (k + 1) ((k : Int) + 1)) := HNm.out.hit HL.out rfl
              go_wp2_with fail
              go_roundw
              case rel => exact ⟨k + 1, (k : Int) + 1, by omega, by go_num, rfl, by omega, by omega, HNo2, HN2, HB1⟩
              case measure => simp [intOf]; omega
            · have HN2 : Hid (NameAt (firstL ++ xs) (x1, y) (k + 1) n) := HNm.out.keep hn
              go_wp2_with fail
              go_roundw
              case rel => exact ⟨k + 1, n, by omega, by go_num, rfl, hn0, hn1, HNo2, HN2, HB1⟩
              case measure => simp [intOf]; omega
        · have hxl : ¬ x1.toList = x.toList := fun e => hxx (bytes_inj e)
          have hxb : (x1.toList == x.toList) = false := by simp [hxl]
          have HNo2 : Hid (∀ j, j < k + 1 → (firstL ++ xs)[j]? ≠ some (x, y)) := no_next HNo.out HL.out (fun e => hxx (by injection e))
          have HN2 : Hid (NameAt (firstL ++ xs) (x, y) (k + 1) n) := HNm.out.miss HL.out hxx
          by_cases hn : n = 0
          · subst hn
            go_wp2_with fail
            go_roundw
            case rel => exact ⟨k + 1, 0, by omega, by go_num, rfl, by omega, by omega, HNo2, HN2, HB1⟩
            case measure => simp [intOf]; omega
          · go_wp2_with fail
            go_roundw
            case rel => exact ⟨k + 1, n, by omega, by go_num, rfl, hn0, hn1, HNo2, HN2, HB1⟩
            case measure => simp [intOf]; omega
    · have hk5 : k = 61 + len := by omega
      have HFin : Hid (FindAns (firstL ++ xs) (x, y) n false) := by
        refine NameAt.done ?_ ?_
        · rw [hL, ← hk5]; exact HNm.out
        · rw [hL, ← hk5]; exact HNo.out
      have HB3 : Hid (Below w.heap.size w wr) := t3
      have hki : ¬ (k : Int) + 1 ≤ 61 + (len : Int) := by omega
      clear t1 t2 t3 t4 t5
      go_wp2_with fail
      refine bodyPost_ret (v := .tuple #[.int .i64 n, .bool false]) (by simp [results, Tryz.f64, go_sem]) rfl ?_
      exact ⟨_, .inl ⟨rfl, HFin.out, HB3.out⟩⟩

end Go.Proofs.YtckpacifimpkgacGreat

namespace Go.Proofs.YtckpacifimpkgacGreat
open Go.RowKit
set_option linter.unusedVariables false

theorem ret_pair {a b c d : Int} (h : a = b) (k : c = d) : Ending.returned (.tuple #[.int .i64 a, .int .i64 c]) = .returned (.tuple #[.int .i64 b, .int .i64 d]) := by rw [h, k]

theorem drew_all {V w : World} {bx n : Nat} {t : TypeId} {x y v : Value} {ys : List Fld} (h1 : Below w.heap.size w V) (h2 : Box2 V bx t x y) (h3 : OwnF V w.heap.size v n ys) :
    Below w.heap.size w V.drew ∧ Box2 V.drew bx t x y ∧ OwnF V.drew w.heap.size v n ys := ⟨h1.drew, h2, h3⟩

theorem drew_own {V : World} {base n c : Nat} {a : Option Addr} {zs : List Int} (h : Owns V base a n c zs) : Owns V.drew base a n c zs := h

/-- A list that is made behind all. -/
theorem late_new {V w : World} {bx n : Nat} {t : TypeId} {x y v : Value} {ys : List Fld} (h1 : Below w.heap.size w V) (h2 : Box2 V bx t x y) (h3 : OwnF V w.heap.size v n ys) :
    Below w.heap.size w (V.alloc (.cells #[] 5)).drew ∧ Box2 (V.alloc (.cells #[] 5)).drew bx t x y ∧ OwnF (V.alloc (.cells #[] 5)).drew w.heap.size v n ys ∧ ∀ k, V.heap.size = k → w.heap.size ≤ k → Owns (V.alloc (.cells #[] 5)).drew w.heap.size (some ⟨k, 0, none⟩) 0 0 [] := by
  have hb : Below V.heap.size V (V.alloc (.cells #[] 5)).drew := ((Below.refl _ _).alloc (Nat.le_refl _) _).drew
  refine ⟨h1.trans (hb.mono h1.size), h2.stays hb, h3.stays hb, ?_⟩
  rintro k rfl hk
  exact ⟨⟨rfl, .inr ⟨V.heap.size, 0, #[], rfl, hk, heap_alloc_new V _, Nat.le_refl _, by decide, rfl, rfl⟩⟩, by simp⟩

set_option maxRecDepth 10000 in
theorem mode5_any (mode : Int) (w : World) : Calls Tryz.prog 65 #[.int .i64 mode] w fun e w' => e = .returned (.tuple #[.int .i64 (modeB mode : Int), .int .i64 (modeF mode : Int)]) ∧ w' = w := by
  by_cases h1 : mode = 1
  · subst h1
    go_enter Tryz.func65, Tryz.ntmps65
    go_wp2_with fail
    go_ret2
    exact ⟨rfl, rfl⟩
  · have h1' : (mode == 1) = false := by simp; omega
    by_cases h3 : mode = 3
    · subst h3
      go_enter Tryz.func65, Tryz.ntmps65
      go_wp2_with fail
      go_ret2
      exact ⟨rfl, rfl⟩
    · have h3' : (mode == 3) = false := by simp; omega
      go_enter Tryz.func65, Tryz.ntmps65
      go_wp2_with fail
      go_ret2
      refine ⟨?_, rfl⟩
      rw [modeB, modeF, if_neg h1, if_neg h1, if_neg h3]
      rfl

theorem mode_ok (mode : Int) : 1 ≤ modeB mode ∧ modeB mode ≤ 8 ∧ modeF mode ≤ 255 := by
  unfold modeB modeF
  split
  · decide
  · split <;> decide

set_option maxRecDepth 10000 in
set_option maxHeartbeats 3200000 in
theorem specPutF_any (m : Int) (a : Option Addr) (len ca : Nat) (xs : List Fld) (x y : ByteArray) (mode : Int) (w : World) (hx : Flds w a len xs) (hf : x.size ≤ maxLen ∧ y.size ≤ maxLen) (hl : len + (x.size + y.size) + fldBytes xs ≤ 1048576) :
    Calls Tryz.prog 44 #[.agg #[.int .i64 m, .slice a len ca], .agg #[.string x, .string y], .int .i64 mode] w fun e w' => ∃ (q : List Int) (a' : Option Addr) (c' : Nat) (v : Value) (n : Nat) (ys : List Fld), e = .returned (.tuple #[.slice a' q.length c', .agg #[.int .i64 m, v]]) ∧ PutAns m xs x y mode q ys ∧ Owns w' w.heap.size a' q.length c' q ∧ OwnF w' w.heap.size v n ys ∧ Below w.heap.size w w' := by
  have HX : Hid (Flds w a len xs) := hx
  have hlen := hx.1
  clear hx
  obtain ⟨w2, hw2⟩ : ∃ w2, ((w.alloc (.cells #[.int .i64 m, .slice a len ca] 26)).alloc (.cells #[.string x, .string y] 43)).alloc (.cells #[.int .i64 0, .slice none 0 0] 26) = w2 := ⟨_, rfl⟩
  have q1 : Box2 w2 w.heap.size 26 (.int .i64 m) (.slice a len ca) := by rw [← hw2]; exact ((Box2.new _ _ _ _).alloc _).alloc _
  have q3 : Box2 w2 (w.heap.size + 1) 43 (.string x) (.string y) := by
    rw [← hw2]
    have := (Box2.new (w.alloc (.cells #[.int .i64 m, .slice a len ca] 26)) 43 (.string x) (.string y)).alloc (.cells #[.int .i64 0, .slice none 0 0] 26)
    rwa [World.size_alloc] at this
  have q2 : Box2 w2 (w.heap.size + 1 + 1) 26 (.int .i64 0) (.slice none 0 0) := by
    rw [← hw2]
    have := Box2.new ((w.alloc (.cells #[.int .i64 m, .slice a len ca] 26)).alloc (.cells #[.string x, .string y] 43)) 26 (.int .i64 0) (.slice none 0 0)
    rwa [World.size_alloc, World.size_alloc] at this
  have HB2 : Hid (Below w.heap.size w w2) := by show Below _ _ _; rw [← hw2]; exact (((Below.refl _ _).alloc (Nat.le_refl _) _).alloc (by simp) _).alloc (by simp; omega) _
  have HW2 : Hid (w2.heap.size = w.heap.size + 3) := by show _ = _; rw [← hw2]; simp
  obtain ⟨c0, c1, _, _⟩ := q1.cells
  go_enter Tryz.func44, Tryz.ntmps44
  go_wp2_with fail
  refine (specCopy_any m a len ca xs _ (HX.out.below HB2.out) (by omega)).mono ?_
  rintro e w3 ⟨v3, rfl, ho3, hb3⟩
  obtain ⟨a3, c3, rfl⟩ := ho3.shape
  obtain ⟨w4, hw4⟩ : ∃ w4, w3.alloc (.cells #[.int .i64 m, .slice a3 len c3] 26) = w4 := ⟨_, rfl⟩
  have hb34 : Below w3.heap.size w3 w4 := by rw [← hw4]; exact (Below.refl _ _).alloc (Nat.le_refl _) _
  have hb24 : Below w2.heap.size w2 w4 := hb3.trans (hb34.mono hb3.size)
  have q4 : Box2 w4 w3.heap.size 26 (.int .i64 m) (.slice a3 len c3) := by rw [← hw4]; exact Box2.new _ _ _ _
  have HO4 : Hid (OwnF w4 w2.heap.size (.slice a3 len c3) len xs) := ho3.stays hb34
  have HBS : Hid (w2.heap.size ≤ w3.heap.size) := hb3.size
  have HQ : Hid (∀ W, Below w4.heap.size w4 W → Box2 W w.heap.size 26 (.int .i64 m) (.slice a len ca) ∧ Box2 W (w.heap.size + 1 + 1) 26 (.int .i64 0) (.slice none 0 0) ∧ Flds W a len xs ∧ Below w.heap.size w W ∧ Box2 W (w.heap.size + 1) 43 (.string x) (.string y) ∧ Box2 W w3.heap.size 26 (.int .i64 m) (.slice a3 len c3) ∧ OwnF W w2.heap.size (.slice a3 len c3) len xs) := fun W h =>
    have h2 := hb24.trans (h.mono hb24.size)
    have hb := HB2.out.trans (h2.mono HB2.out.size)
    ⟨q1.stays h2, q2.stays h2, HX.out.below hb, hb, q3.stays h2, q4.stays h, HO4.out.stays h⟩
  have HZ4 : Hid (w2.heap.size ≤ w4.heap.size ∧ w3.heap.size < w4.heap.size) := ⟨hb24.size, q4.lt⟩
  have HC : Hid (∀ (v : Value) (k : Nat) (W : World) (ys : List Fld) (m' : Int) (base : Nat), Below w4.heap.size w4 W → w2.heap.size ≤ base → OwnF W base v k ys → Below w.heap.size w ((W.setCell ⟨w.heap.size + 1 + 1, 0, none⟩ (.int .i64 m')).setCell ⟨w.heap.size + 1 + 1, 1, none⟩ v) ∧ Box2 ((W.setCell ⟨w.heap.size + 1 + 1, 0, none⟩ (.int .i64 m')).setCell ⟨w.heap.size + 1 + 1, 1, none⟩ v) (w.heap.size + 1 + 1) 26 (.int .i64 m') v ∧ OwnF ((W.setCell ⟨w.heap.size + 1 + 1, 0, none⟩ (.int .i64 m')).setCell ⟨w.heap.size + 1 + 1, 1, none⟩ v) w.heap.size v k ys) := fun v k W ys m' base hW hbase ho =>
    put_box (HQ.out _ hW).2.2.2.1 (by omega) (HQ.out _ hW).2.1 (by have := HW2.out; omega) ho m'
  have HD : Hid (∀ (W : World) (base : Nat) (a' : Option Addr) (n c : Nat) (zs : List Int) (u v : Value), w2.heap.size ≤ base → Owns W base a' n c zs → Owns ((W.setCell ⟨w.heap.size + 1 + 1, 0, none⟩ u).setCell ⟨w.heap.size + 1 + 1, 1, none⟩ v) w.heap.size a' n c zs) := by
    intro W base a' n c zs u v hbase ho
    have hz := HW2.out
    exact ⟨own_lower (ownsRow_setCell_below (ownsRow_setCell_below ho.1 (a := ⟨w.heap.size + 1 + 1, 0, none⟩) (show w.heap.size + 1 + 1 < base by omega) _) (a := ⟨w.heap.size + 1 + 1, 1, none⟩) (show w.heap.size + 1 + 1 < base by omega) _) (by omega), ho.2⟩
  obtain ⟨d0, d1, _, _⟩ := (HQ.out _ (Below.refl _ _)).1.cells
  clear c0 c1 hw2 q1 q2 q3 q4 hb3 hb34 hb24 ho3 HO4
  go_wp2_with fail
  clear hw4
  generalize w3.heap.size = bs at *
  refine (specOk_any m a len ca xs _ (HQ.out _ (Below.refl _ _)).2.2.1 (by omega)).mono ?_
  rintro e w5 ⟨rfl, hb5⟩
  have HB5 : Hid (Below w4.heap.size w4 w5) := hb5
  clear hb5 d0 d1
  cases hok : okT m xs with
  | false =>
    have HNo : Hid (¬ (okT m xs = true ∧ 1 ≤ mode ∧ mode ≤ 3)) := fun h => by rw [hok] at h; cases h.1
    have HBW : Hid (Below w4.heap.size w4 w5) := HB5.out
    clear hok
    obtain ⟨d0, d1, _, _⟩ := (HQ.out _ HBW.out).2.2.2.2.2.1.cells
    obtain ⟨e0, e1, e2, e3⟩ := (HQ.out _ HBW.out).2.1.cells
    obtain ⟨f0, f1, _, _⟩ := ((HQ.out _ HBW.out.drew).2.2.2.2.2.1.alloc (.cells #[] 5)).cells
    obtain ⟨g0, g1, g2, g3⟩ := ((HQ.out _ HBW.out.drew).2.1.alloc (.cells #[] 5)).cells
    have hbr : bs < w5.heap.size := (HQ.out _ HBW.out).2.2.2.2.2.1.lt
    have hbr1 : w.heap.size + 1 + 1 < w5.heap.size := (HQ.out _ HBW.out).2.1.lt
    have hbr2 : ¬ w5.heap.size = bs := by omega
    have hbr3 : ¬ bs = w5.heap.size := by omega
    have hbr4 : ¬ w5.heap.size = w.heap.size + 1 + 1 := by omega
    have hbr5 : ¬ w.heap.size + 1 + 1 = w5.heap.size := by omega
    go_wp2_with fail
    have hb6 : Below w4.heap.size w4 (w5.drew.alloc (.cells #[] 5)) := HBW.out.drew.alloc HBW.out.size _
    have hwz : w2.heap.size ≤ w5.heap.size := by have := HZ4.out.1; have := HBW.out.size; omega
    have ho6 : Owns (w5.drew.alloc (.cells #[] 5)) w5.heap.size (some ⟨w5.heap.size, 0, none⟩) 0 0 [] := ⟨⟨rfl, .inr ⟨w5.heap.size, 0, #[], rfl, Nat.le_refl _, heap_alloc_new w5.drew _, Nat.le_refl _, by decide, rfl, rfl⟩⟩, by simp⟩
    have HF : Hid _ := HC.out _ _ _ _ m _ hb6 (Nat.le_refl _) (HQ.out _ hb6).2.2.2.2.2.2
    have HD5 : Hid _ := HD.out _ w5.heap.size _ _ _ _ (.int .i64 m) (.slice a3 len c3) hwz ho6
    have hF2 := HC.out _ _ _ _ m _ HBW.out (Nat.le_refl _) (HQ.out _ HBW.out).2.2.2.2.2.2
    have HF2 : Hid _ := late_new hF2.1 hF2.2.1 hF2.2.2
    have HZ5 : Hid (w.heap.size ≤ w5.heap.size) := by have := HB2.out.size; show _ ≤ _; omega
    clear hb6 ho6 hF2
    go_region
    all_goals
      clear d0 d1 e0 e1 e2 e3 f0 f1 g0 g1 g2 g3 hbr hbr1 hbr2 hbr3 hbr4 hbr5
      go_wp2_with fail
      first
        | (obtain ⟨r0, r1⟩ := ret_tab HF.out.2.1
           refine bodyPost_ret (v := .tuple #[.slice (some ⟨w5.heap.size, 0, none⟩) 0 0, .agg #[.int .i64 m, .slice a3 len c3]]) (by simp [results, Tryz.f44, go_sem]) rfl ?_
           exact ⟨[], _, _, _, len, xs, rfl, .inr ⟨HNo.out, rfl, rfl⟩, HD5.out, HF.out.2.2, HF.out.1⟩)
        | (obtain ⟨r0, r1⟩ := ret_tab HF2.out.2.1
           refine bodyPost_ret (v := .tuple #[.slice (some ⟨w5.heap.size, 0, none⟩) 0 0, .agg #[.int .i64 m, .slice a3 len c3]]) (by simp only [World.cell?_drew] at r0 r1; simp [results, Tryz.f44, go_sem, r0, r1]) rfl ?_
           exact ⟨[], _, _, _, len, xs, rfl, .inr ⟨HNo.out, rfl, rfl⟩, HF2.out.2.2.2 _ (by simp) HZ5.out, HF2.out.2.2.1, HF2.out.1⟩)
  | true =>
    by_cases hm : 1 ≤ mode ∧ mode ≤ 3
    · have HYes : Hid (okT m xs = true ∧ 1 ≤ mode ∧ mode ≤ 3) := ⟨hok, hm.1, hm.2⟩
      have hmm : 0 ≤ m ∧ m ≤ 4096 := by unfold okT at hok; rw [decide_eq_true_eq] at hok; exact ⟨hok.1, hok.2.1⟩
      have HOk : Hid (okT m xs = true) := hok
      clear hok
      go_wp2_with fail
      refine (tin_yes mode 1 3 _ hm.1 hm.2).mono ?_
      rintro e w6 ⟨rfl, rfl⟩
      obtain ⟨d0, d1, _, _⟩ := (HQ.out _ HB5.out).1.cells
      obtain ⟨d2, d3, _, _⟩ := (HQ.out _ HB5.out).2.2.2.2.1.cells
      go_wp2_with fail
      refine (specFind_any m a len ca xs x y _ (HQ.out _ HB5.out).2.2.1 (by omega)).mono ?_
      rintro e w7 ⟨i, b, rfl, hfa, hb7⟩
      obtain ⟨hi0, hi1⟩ := find_bound hfa
      rw [List.length_append, firstL_len] at hi1
      obtain ⟨I, rfl⟩ := Int.eq_ofNat_of_zero_le hi0
      have HFA : Hid (FindAns (firstL ++ xs) (x, y) (I : Int) b) := hfa
      have HB7 : Hid (Below w4.heap.size w4 w7) := HB5.out.trans (hb7.mono HB5.out.size)
      have hI : I ≤ 16777216 := by omega
      have HZ7 : Hid (w2.heap.size ≤ w7.heap.size) := by have := HZ4.out.1; have := HB7.out.size; show _ ≤ _; omega
      clear hfa hb7 d0 d1 d2 d3 hi0 hi1
      by_cases hboth : b = true ∧ mode ≠ 3
      · obtain ⟨rfl, hm3⟩ := hboth
        have hne3 : (mode != 3) = true := by simp; omega
        obtain ⟨d0, d1, _, _⟩ := (HQ.out _ HB7.out).2.2.2.2.2.1.cells
        obtain ⟨e0, e1, e2, e3⟩ := (HQ.out _ HB7.out).2.1.cells
        obtain ⟨f0, f1, _, _⟩ := ((HQ.out _ HB7.out.drew).2.2.2.2.2.1.alloc (.cells #[] 5)).cells
        have hbr : bs < w7.heap.size := (HQ.out _ HB7.out).2.2.2.2.2.1.lt
        have hbr2 : ¬ w7.heap.size = bs := by omega
        have hbr3 : ¬ bs = w7.heap.size := by omega
        have HPe : Hid (putPfx [] 7 128 (I : Int) = pfx 7 128 I) := by
          show _ = _
          rw [putPfx, if_pos (by decide), List.nil_append]
          congr 1
          omega
        have HP7 : Hid (Calls Tryz.prog 22 #[.slice (some ⟨w7.heap.size, 0, none⟩) 0 0, .int .i64 7, .int .i64 128, .int .i64 I] (w7.drew.alloc (.cells #[] 5)) fun e w' => ∃ a' c', e = .returned (.slice a' (pfx 7 128 I).length c') ∧ Owns w' (w7.heap.size + 1) a' (pfx 7 128 I).length c' (pfx 7 128 I) ∧ Below (w7.heap.size + 1) (w7.drew.alloc (.cells #[] 5)) w') := by
          have h := specPfx_any w7.heap.size 0 0 0 7 128 (I : Int) [] (w7.drew.alloc (.cells #[] 5)) ⟨rfl, by simp, .inl rfl⟩ (by omega)
          rw [HPe.out, World.size_alloc] at h
          exact h
        go_wp2_with fail
        go_region_with (first
          | (go_at_call 22; refine HP7.out.mono ?_; rintro e y1 ⟨a1, c1, rfl, ho1, hb1⟩; have hb1' : Below w4.heap.size w4 y1 := (HB7.out.drew.alloc HB7.out.size _).trans (hb1.mono (by have := HB7.out.size; omega)); obtain ⟨s0, s1, _, _⟩ := (HQ.out _ hb1').2.2.2.2.2.1.cells; obtain ⟨s4, s5, s6, s7⟩ := (HQ.out _ hb1').2.1.cells))
        all_goals
          have HF : Hid _ := HC.out _ _ _ _ m _ hb1' (Nat.le_refl _) (HQ.out _ hb1').2.2.2.2.2.2
          have HD5 : Hid _ := HD.out y1 (w7.heap.size + 1) _ _ _ _ (.int .i64 m) (.slice a3 len c3) (by have := HZ7.out; omega) ho1
          clear ho1 hb1 hb1' d0 d1 e0 e1 e2 e3 f0 f1 s0 s1 hbr hbr2 hbr3
          go_wp2_with fail
          obtain ⟨r0, r1⟩ := ret_tab HF.out.2.1
          refine bodyPost_ret (v := .tuple #[.slice a1 (pfx 7 128 I).length c1, .agg #[.int .i64 m, .slice a3 len c3]]) (by simp [results, Tryz.f44, go_sem, r0, r1]) rfl ?_
          exact ⟨pfx 7 128 I, _, _, _, len, xs, rfl, .inl ⟨HYes.out, I, true, HFA.out, .inl ⟨rfl, hm3, rfl⟩, .inr ⟨by simp, rfl⟩⟩, HD5.out, HF.out.2.2, HF.out.1⟩
      · skip
        have HBF : Hid (¬ (b = true ∧ mode ≠ 3)) := hboth
        obtain ⟨hB1, hB8, hF8⟩ := mode_ok mode
        have HM : Hid (∀ W : World, Calls Tryz.prog 65 #[.int .i64 mode] W fun e w' => e = .returned (.tuple #[.int .i64 (modeB mode : Int), .int .i64 (modeF mode : Int)]) ∧ w' = W) := fun W => mode5_any mode W
        have HLit : Hid (∀ q, LitOf (modeB mode) (modeF mode) I x y q → FormOf mode b I x y q) := fun q h => .inr ⟨hboth, h⟩
        have HEnd1 : Hid (mode = 1 → ∀ k, FitN m.toNat ((x, y) :: xs) k → (mode = 1 ∧ b = false ∧ AddAns m xs (x, y) (((x, y) :: xs).take k)) ∨ (¬ (mode = 1 ∧ b = false) ∧ ((x, y) :: xs).take k = xs)) := by
          intro h1 k hk
          refine .inl ⟨h1, ?_, .inl ⟨HOk.out, k, hk, rfl⟩⟩
          cases b with
          | false => rfl
          | true => exact absurd ⟨rfl, by omega⟩ hboth
        have HEnd2 : Hid (mode ≠ 1 → (mode = 1 ∧ b = false ∧ AddAns m xs (x, y) xs) ∨ (¬ (mode = 1 ∧ b = false) ∧ xs = xs)) := fun h1 => .inr ⟨fun h => h1 h.1, rfl⟩
        have HSome : Hid (∀ q ys, FormOf mode b I x y q → ((mode = 1 ∧ b = false ∧ AddAns m xs (x, y) ys) ∨ (¬ (mode = 1 ∧ b = false) ∧ ys = xs)) → PutAns m xs x y mode q ys) := fun q ys h1 h2 => .inl ⟨HYes.out, I, b, HFA.out, h1, h2⟩
        have hb3 : b = false ∨ (b = true ∧ mode = 3) := by
          cases b with
          | false => exact .inl rfl
          | true =>
            right
            refine ⟨rfl, ?_⟩
            by_cases h : mode = 3
            · exact h
            · exact absurd ⟨rfl, h⟩ hboth
        generalize modeB mode = B at *
        generalize modeF mode = F at *
        clear HYes HOk hboth HFA
        have HPe : Hid (putPfx [] (B : Int) (F : Int) (I : Int) = pfx B F I) := by
          show _ = _
          rw [putPfx, if_pos ⟨by omega, by omega, by omega, by omega⟩, List.nil_append, Int.toNat_natCast, Int.toNat_natCast]
          congr 1
          omega
        have hpl := pfx_len B F I
        have hpl0 : 0 < (pfx B F I).length := by unfold pfx; split <;> simp
        have HPf : Hid (∀ q p v, q = pfx B F I ++ p ++ v → ((I = 0 ∧ StrOf x p) ∨ (I ≠ 0 ∧ p = [])) → StrOf y v → LitOf B F I x y q) := fun q p v h1 h2 h3 => ⟨p, v, h2, h3, h1⟩
        generalize hP : pfx B F I = P at *
        clear hP
        generalize hpn : P.length = pn at *
        have HPn : Hid (P.length = pn) := hpn
        clear hpn
        have HP7 : Hid (Calls Tryz.prog 22 #[.slice (some ⟨w7.heap.size, 0, none⟩) 0 0, .int .i64 B, .int .i64 F, .int .i64 I] (w7.alloc (.cells #[] 5)) fun e w' => ∃ g c', e = .returned (.slice (some ⟨g, 0, none⟩) pn c') ∧ Owns w' (w7.heap.size + 1) (some ⟨g, 0, none⟩) pn c' P ∧ Below (w7.heap.size + 1) (w7.alloc (.cells #[] 5)) w') := by
          have h := specPfx_any w7.heap.size 0 0 0 B F (I : Int) [] (w7.alloc (.cells #[] 5)) ⟨rfl, by simp, .inl rfl⟩ (by omega)
          rw [HPe.out, HPn.out, World.size_alloc] at h
          refine h.mono ?_
          rintro e w' ⟨a', c', rfl, ho, hb⟩
          obtain ⟨g, rfl, _, _⟩ := ho.some hpl0
          exact ⟨g, c', rfl, ho, hb⟩
        have hb7a : Below w4.heap.size w4 (w7.alloc (.cells #[] 5)) := HB7.out.alloc HB7.out.size _
        have HB7a : Hid (Below w4.heap.size w4 (w7.alloc (.cells #[] 5))) := hb7a
        have hw7s : w4.heap.size ≤ w7.heap.size + 1 := by have := HB7.out.size; omega
        clear hb7a
        rcases hb3 with rfl | ⟨rfl, rfl⟩
        · skip
          go_wp2_with fail
          refine (HM.out _).mono ?_
          rintro e w8 ⟨rfl, rfl⟩
          go_wp2_with fail
          refine HP7.out.mono ?_
          rintro e w9 ⟨g9, c9, rfl, ho9, hb9⟩
          have HB9 : Hid (Below w4.heap.size w4 w9) := HB7a.out.trans (hb9.mono hw7s)
          have HO9 : Hid (Owns w9 (w8.heap.size + 1) (some ⟨g9, 0, none⟩) pn c9 P) := ho9
          have HZ9 : Hid (w2.heap.size ≤ w9.heap.size) := by have h1 := HB9.out.size; have h2 := HZ4.out.1; show _ ≤ _; omega
          clear ho9 hb9 HP7 HM
          obtain ⟨c0, c1, _, _⟩ := (HQ.out _ HB9.out).2.2.2.2.1.cells
          by_cases h0 : I = 0
          · subst h0
            go_wp2_with fail
            refine (specPutS_any g9 0 pn c9 x P _ HO9.out.seg (by omega) (by omega)).mono ?_
            rintro e w10 ⟨p, a10, c10, hp, rfl, ho10, hb10⟩
            have HB10 : Hid (Below w4.heap.size w4 w10) := HB9.out.trans (hb10.mono HB9.out.size)
            have hrl : (P ++ p).length ≤ 1048700 := by have := hp.len; rw [List.length_append, HPn.out]; omega
            have HS : Hid (StrOf x p) := hp
            obtain ⟨g10, rfl, _, _⟩ := ho10.some (by rw [List.length_append, HPn.out]; omega)
            have HO10 : Hid (Owns w10 w9.heap.size (some ⟨g10, 0, none⟩) (P ++ p).length c10 (P ++ p)) := ho10
            clear hp ho10 hb10 c0 c1
            obtain ⟨R, hR⟩ : ∃ R, P ++ p = R := ⟨_, rfl⟩
            have HR : Hid (P ++ p = R) := hR
            rw [hR] at HO10 hrl ⊢
            clear hR
            obtain ⟨rn, hrn⟩ : ∃ rn, R.length = rn := ⟨_, rfl⟩
            rw [hrn] at HO10 hrl ⊢
            clear hrn
            obtain ⟨c0, c1, _, _⟩ := (HQ.out _ HB10.out).2.2.2.2.1.cells
            go_wp2_with fail
            refine (specPutS_any g10 0 rn c10 y R _ HO10.out.seg (by omega) (by omega)).mono ?_
            rintro e w11 ⟨v, a11, c11, hv, rfl, ho11, hb11⟩
            have HB11 : Hid (Below w4.heap.size w4 w11) := HB10.out.trans (hb11.mono HB10.out.size)
            have HO11 : Hid (Owns w11 w10.heap.size a11 (R ++ v).length c11 (R ++ v)) := ho11
            have HZ11 : Hid (w2.heap.size ≤ w10.heap.size) := by have h1 := HB10.out.size; have h2 := HZ4.out.1; show _ ≤ _; omega
            have HL11 : Hid (LitOf B F 0 x y (R ++ v)) := HPf.out _ p v (by rw [HR.out]) (by first | exact .inl ⟨rfl, HS.out⟩ | exact .inl ⟨trivial, HS.out⟩) hv
            clear hv ho11 hb11 c0 c1
            generalize R ++ v = S at *
            obtain ⟨sn, hsn⟩ : ∃ sn, S.length = sn := ⟨_, rfl⟩
            have HSn : Hid (S.length = sn) := hsn
            rw [hsn] at HO11 ⊢
            clear hsn
            obtain ⟨d0, d1, _, _⟩ := (HQ.out _ HB11.out).1.cells
            obtain ⟨d2, d3, _, _⟩ := (HQ.out _ HB11.out).2.2.2.2.1.cells
            obtain ⟨d4, d5, _, _⟩ := (HQ.out _ HB11.out).2.2.2.2.2.1.cells
            obtain ⟨d6, d7, d8, d9⟩ := (HQ.out _ HB11.out).2.1.cells
            by_cases hm1 : (mode : Int) = 1
            · have HM1 : Hid ((mode : Int) = 1) := hm1
              have hmb : ((mode : Int) == 1) = true := by simp; omega
              clear hm1
              go_wp2_with fail
              refine (specAdd4_any m a len ca xs x y _ (HQ.out _ HB11.out).2.2.1 hmm.1 hmm.2 hf (by omega)).mono ?_
              rintro e w12 ⟨vA, kA, rfl, hfit, hoA, hbA⟩
              obtain ⟨aA, cA, rfl⟩ := hoA.shape
              have hb12 : Below w4.heap.size w4 w12 := HB11.out.trans (hbA.mono HB11.out.size)
              have HEA : Hid _ := HEnd1.out HM1.out kA hfit
              have HF : Hid _ := HC.out _ _ _ _ m _ hb12 (by have h1 := HB11.out.size; have h2 := HZ4.out.1; omega) hoA
              have HD5 : Hid _ := HD.out w12 w10.heap.size _ _ _ _ (.int .i64 m) (.slice aA kA cA) HZ11.out (HO11.out.below hbA)
              obtain ⟨s4, s5, s6, s7⟩ := (HQ.out _ hb12).2.1.cells
              clear hfit hoA hbA hb12 d0 d1 d2 d3 d4 d5 d6 d7 d8 d9
              go_wp2_with fail
              obtain ⟨r0, r1⟩ := ret_tab HF.out.2.1
              refine bodyPost_ret (v := .tuple #[.slice a11 sn c11, .agg #[.int .i64 m, .slice aA kA cA]]) (by simp [results, Tryz.f44, go_sem, r0, r1]) rfl ?_
              exact ⟨S, _, _, _, kA, _, by rw [HSn.out], HSome.out _ _ (HLit.out _ HL11.out) HEA.out, by rw [HSn.out]; exact HD5.out, HF.out.2.2, HF.out.1⟩
            · have HM1 : Hid (¬ (mode : Int) = 1) := hm1
              have hmb : ((mode : Int) == 1) = false := by simp; omega
              have hF0 := HC.out _ _ _ _ m _ HB11.out (Nat.le_refl _) (HQ.out _ HB11.out).2.2.2.2.2.2
              have HF : Hid _ := drew_all hF0.1 hF0.2.1 hF0.2.2
              have HD5 : Hid _ := drew_own (HD.out w11 w10.heap.size _ _ _ _ (.int .i64 m) (.slice a3 len c3) HZ11.out HO11.out)
              go_wp2_with fail
              go_region
              all_goals
                clear d0 d1 d2 d3 d4 d5 d6 d7 d8 d9
                go_wp2_with fail
                obtain ⟨r0, r1⟩ := ret_tab HF.out.2.1
                refine bodyPost_ret (v := .tuple #[.slice a11 sn c11, .agg #[.int .i64 m, .slice a3 len c3]]) (by simp only [World.cell?_drew] at r0 r1; simp [results, Tryz.f44, go_sem, r0, r1]) rfl ?_
                exact ⟨S, _, _, _, len, _, by rw [HSn.out], HSome.out _ _ (HLit.out _ HL11.out) (by first | exact .inr ⟨fun h => HM1.out h.1, rfl⟩ | exact .inr ⟨fun h => HM1.out h.1, trivial⟩ | simp), by rw [HSn.out]; exact HD5.out, HF.out.2.2, HF.out.1⟩
          · have h0i : ((I : Int) == 0) = false := by simp; omega
            have h0j : ¬ (I : Int) = 0 := by omega
            go_wp2_with fail
            refine (specPutS_any g9 0 pn c9 y P _ HO9.out.seg (by omega) (by omega)).mono ?_
            rintro e w11 ⟨v, a11, c11, hv, rfl, ho11, hb11⟩
            have HB11 : Hid (Below w4.heap.size w4 w11) := HB9.out.trans (hb11.mono HB9.out.size)
            have HO11 : Hid (Owns w11 w9.heap.size a11 (P ++ v).length c11 (P ++ v)) := ho11
            have HL11 : Hid (LitOf B F I x y (P ++ v)) := HPf.out _ [] v (by rw [List.append_nil]) (.inr ⟨h0, rfl⟩) hv
            clear hv ho11 hb11 c0 c1
            generalize P ++ v = S at *
            obtain ⟨sn, hsn⟩ : ∃ sn, S.length = sn := ⟨_, rfl⟩
            have HSn : Hid (S.length = sn) := hsn
            rw [hsn] at HO11 ⊢
            clear hsn
            obtain ⟨d0, d1, _, _⟩ := (HQ.out _ HB11.out).1.cells
            obtain ⟨d2, d3, _, _⟩ := (HQ.out _ HB11.out).2.2.2.2.1.cells
            obtain ⟨d4, d5, _, _⟩ := (HQ.out _ HB11.out).2.2.2.2.2.1.cells
            obtain ⟨d6, d7, d8, d9⟩ := (HQ.out _ HB11.out).2.1.cells
            by_cases hm1 : (mode : Int) = 1
            · have HM1 : Hid ((mode : Int) = 1) := hm1
              have hmb : ((mode : Int) == 1) = true := by simp; omega
              clear hm1
              go_wp2_with fail
              refine (specAdd4_any m a len ca xs x y _ (HQ.out _ HB11.out).2.2.1 hmm.1 hmm.2 hf (by omega)).mono ?_
              rintro e w12 ⟨vA, kA, rfl, hfit, hoA, hbA⟩
              obtain ⟨aA, cA, rfl⟩ := hoA.shape
              have hb12 : Below w4.heap.size w4 w12 := HB11.out.trans (hbA.mono HB11.out.size)
              have HEA : Hid _ := HEnd1.out HM1.out kA hfit
              have HF : Hid _ := HC.out _ _ _ _ m _ hb12 (by have h1 := HB11.out.size; have h2 := HZ4.out.1; omega) hoA
              have HD5 : Hid _ := HD.out w12 w9.heap.size _ _ _ _ (.int .i64 m) (.slice aA kA cA) HZ9.out (HO11.out.below hbA)
              obtain ⟨s4, s5, s6, s7⟩ := (HQ.out _ hb12).2.1.cells
              clear hfit hoA hbA hb12 d0 d1 d2 d3 d4 d5 d6 d7 d8 d9
              go_wp2_with fail
              obtain ⟨r0, r1⟩ := ret_tab HF.out.2.1
              refine bodyPost_ret (v := .tuple #[.slice a11 sn c11, .agg #[.int .i64 m, .slice aA kA cA]]) (by simp [results, Tryz.f44, go_sem, r0, r1]) rfl ?_
              exact ⟨S, _, _, _, kA, _, by rw [HSn.out], HSome.out _ _ (HLit.out _ HL11.out) HEA.out, by rw [HSn.out]; exact HD5.out, HF.out.2.2, HF.out.1⟩
            · have HM1 : Hid (¬ (mode : Int) = 1) := hm1
              have hmb : ((mode : Int) == 1) = false := by simp; omega
              have hF0 := HC.out _ _ _ _ m _ HB11.out (Nat.le_refl _) (HQ.out _ HB11.out).2.2.2.2.2.2
              have HF : Hid _ := drew_all hF0.1 hF0.2.1 hF0.2.2
              have HD5 : Hid _ := drew_own (HD.out w11 w9.heap.size _ _ _ _ (.int .i64 m) (.slice a3 len c3) HZ9.out HO11.out)
              go_wp2_with fail
              go_region
              all_goals
                clear d0 d1 d2 d3 d4 d5 d6 d7 d8 d9
                go_wp2_with fail
                obtain ⟨r0, r1⟩ := ret_tab HF.out.2.1
                refine bodyPost_ret (v := .tuple #[.slice a11 sn c11, .agg #[.int .i64 m, .slice a3 len c3]]) (by simp only [World.cell?_drew] at r0 r1; simp [results, Tryz.f44, go_sem, r0, r1]) rfl ?_
                exact ⟨S, _, _, _, len, _, by rw [HSn.out], HSome.out _ _ (HLit.out _ HL11.out) (by first | exact .inr ⟨fun h => HM1.out h.1, rfl⟩ | exact .inr ⟨fun h => HM1.out h.1, trivial⟩ | simp), by rw [HSn.out]; exact HD5.out, HF.out.2.2, HF.out.1⟩
        · skip
          go_wp2_with fail
          refine (HM.out _).mono ?_
          rintro e w8 ⟨rfl, rfl⟩
          go_wp2_with fail
          refine HP7.out.mono ?_
          rintro e w9 ⟨g9, c9, rfl, ho9, hb9⟩
          have HB9 : Hid (Below w4.heap.size w4 w9) := HB7a.out.trans (hb9.mono hw7s)
          have HO9 : Hid (Owns w9 (w8.heap.size + 1) (some ⟨g9, 0, none⟩) pn c9 P) := ho9
          have HZ9 : Hid (w2.heap.size ≤ w9.heap.size) := by have h1 := HB9.out.size; have h2 := HZ4.out.1; show _ ≤ _; omega
          clear ho9 hb9 HP7 HM
          obtain ⟨c0, c1, _, _⟩ := (HQ.out _ HB9.out).2.2.2.2.1.cells
          by_cases h0 : I = 0
          · subst h0
            go_wp2_with fail
            refine (specPutS_any g9 0 pn c9 x P _ HO9.out.seg (by omega) (by omega)).mono ?_
            rintro e w10 ⟨p, a10, c10, hp, rfl, ho10, hb10⟩
            have HB10 : Hid (Below w4.heap.size w4 w10) := HB9.out.trans (hb10.mono HB9.out.size)
            have hrl : (P ++ p).length ≤ 1048700 := by have := hp.len; rw [List.length_append, HPn.out]; omega
            have HS : Hid (StrOf x p) := hp
            obtain ⟨g10, rfl, _, _⟩ := ho10.some (by rw [List.length_append, HPn.out]; omega)
            have HO10 : Hid (Owns w10 w9.heap.size (some ⟨g10, 0, none⟩) (P ++ p).length c10 (P ++ p)) := ho10
            clear hp ho10 hb10 c0 c1
            obtain ⟨R, hR⟩ : ∃ R, P ++ p = R := ⟨_, rfl⟩
            have HR : Hid (P ++ p = R) := hR
            rw [hR] at HO10 hrl ⊢
            clear hR
            obtain ⟨rn, hrn⟩ : ∃ rn, R.length = rn := ⟨_, rfl⟩
            rw [hrn] at HO10 hrl ⊢
            clear hrn
            obtain ⟨c0, c1, _, _⟩ := (HQ.out _ HB10.out).2.2.2.2.1.cells
            go_wp2_with fail
            refine (specPutS_any g10 0 rn c10 y R _ HO10.out.seg (by omega) (by omega)).mono ?_
            rintro e w11 ⟨v, a11, c11, hv, rfl, ho11, hb11⟩
            have HB11 : Hid (Below w4.heap.size w4 w11) := HB10.out.trans (hb11.mono HB10.out.size)
            have HO11 : Hid (Owns w11 w10.heap.size a11 (R ++ v).length c11 (R ++ v)) := ho11
            have HZ11 : Hid (w2.heap.size ≤ w10.heap.size) := by have h1 := HB10.out.size; have h2 := HZ4.out.1; show _ ≤ _; omega
            have HL11 : Hid (LitOf B F 0 x y (R ++ v)) := HPf.out _ p v (by rw [HR.out]) (by first | exact .inl ⟨rfl, HS.out⟩ | exact .inl ⟨trivial, HS.out⟩) hv
            clear hv ho11 hb11 c0 c1
            generalize R ++ v = S at *
            obtain ⟨sn, hsn⟩ : ∃ sn, S.length = sn := ⟨_, rfl⟩
            have HSn : Hid (S.length = sn) := hsn
            rw [hsn] at HO11 ⊢
            clear hsn
            obtain ⟨d0, d1, _, _⟩ := (HQ.out _ HB11.out).1.cells
            obtain ⟨d2, d3, _, _⟩ := (HQ.out _ HB11.out).2.2.2.2.1.cells
            obtain ⟨d4, d5, _, _⟩ := (HQ.out _ HB11.out).2.2.2.2.2.1.cells
            obtain ⟨d6, d7, d8, d9⟩ := (HQ.out _ HB11.out).2.1.cells
            by_cases hm1 : (3 : Int) = 1
            · have HM1 : Hid ((3 : Int) = 1) := hm1
              have hmb : ((3 : Int) == 1) = true := by simp; omega
              clear hm1
              go_wp2_with fail
              refine (specAdd4_any m a len ca xs x y _ (HQ.out _ HB11.out).2.2.1 hmm.1 hmm.2 hf (by omega)).mono ?_
              rintro e w12 ⟨vA, kA, rfl, hfit, hoA, hbA⟩
              obtain ⟨aA, cA, rfl⟩ := hoA.shape
              have hb12 : Below w4.heap.size w4 w12 := HB11.out.trans (hbA.mono HB11.out.size)
              have HEA : Hid _ := HEnd1.out HM1.out kA hfit
              have HF : Hid _ := HC.out _ _ _ _ m _ hb12 (by have h1 := HB11.out.size; have h2 := HZ4.out.1; omega) hoA
              have HD5 : Hid _ := HD.out w12 w10.heap.size _ _ _ _ (.int .i64 m) (.slice aA kA cA) HZ11.out (HO11.out.below hbA)
              obtain ⟨s4, s5, s6, s7⟩ := (HQ.out _ hb12).2.1.cells
              clear hfit hoA hbA hb12 d0 d1 d2 d3 d4 d5 d6 d7 d8 d9
              go_wp2_with fail
              obtain ⟨r0, r1⟩ := ret_tab HF.out.2.1
              refine bodyPost_ret (v := .tuple #[.slice a11 sn c11, .agg #[.int .i64 m, .slice aA kA cA]]) (by simp [results, Tryz.f44, go_sem, r0, r1]) rfl ?_
              exact ⟨S, _, _, _, kA, _, by rw [HSn.out], HSome.out _ _ (HLit.out _ HL11.out) HEA.out, by rw [HSn.out]; exact HD5.out, HF.out.2.2, HF.out.1⟩
            · have HM1 : Hid (¬ (3 : Int) = 1) := hm1
              have hmb : ((3 : Int) == 1) = false := by decide
              have hF0 := HC.out _ _ _ _ m _ HB11.out (Nat.le_refl _) (HQ.out _ HB11.out).2.2.2.2.2.2
              have HF : Hid _ := drew_all hF0.1 hF0.2.1 hF0.2.2
              have HD5 : Hid _ := drew_own (HD.out w11 w10.heap.size _ _ _ _ (.int .i64 m) (.slice a3 len c3) HZ11.out HO11.out)
              go_wp2_with fail
              go_region
              all_goals
                clear d0 d1 d2 d3 d4 d5 d6 d7 d8 d9
                go_wp2_with fail
                obtain ⟨r0, r1⟩ := ret_tab HF.out.2.1
                refine bodyPost_ret (v := .tuple #[.slice a11 sn c11, .agg #[.int .i64 m, .slice a3 len c3]]) (by simp only [World.cell?_drew] at r0 r1; simp [results, Tryz.f44, go_sem, r0, r1]) rfl ?_
                exact ⟨S, _, _, _, len, _, by rw [HSn.out], HSome.out _ _ (HLit.out _ HL11.out) (by first | exact .inr ⟨fun h => HM1.out h.1, rfl⟩ | exact .inr ⟨fun h => HM1.out h.1, trivial⟩ | simp), by rw [HSn.out]; exact HD5.out, HF.out.2.2, HF.out.1⟩
          · have h0i : ((I : Int) == 0) = false := by simp; omega
            have h0j : ¬ (I : Int) = 0 := by omega
            go_wp2_with fail
            refine (specPutS_any g9 0 pn c9 y P _ HO9.out.seg (by omega) (by omega)).mono ?_
            rintro e w11 ⟨v, a11, c11, hv, rfl, ho11, hb11⟩
            have HB11 : Hid (Below w4.heap.size w4 w11) := HB9.out.trans (hb11.mono HB9.out.size)
            have HO11 : Hid (Owns w11 w9.heap.size a11 (P ++ v).length c11 (P ++ v)) := ho11
            have HL11 : Hid (LitOf B F I x y (P ++ v)) := HPf.out _ [] v (by rw [List.append_nil]) (.inr ⟨h0, rfl⟩) hv
            clear hv ho11 hb11 c0 c1
            generalize P ++ v = S at *
            obtain ⟨sn, hsn⟩ : ∃ sn, S.length = sn := ⟨_, rfl⟩
            have HSn : Hid (S.length = sn) := hsn
            rw [hsn] at HO11 ⊢
            clear hsn
            obtain ⟨d0, d1, _, _⟩ := (HQ.out _ HB11.out).1.cells
            obtain ⟨d2, d3, _, _⟩ := (HQ.out _ HB11.out).2.2.2.2.1.cells
            obtain ⟨d4, d5, _, _⟩ := (HQ.out _ HB11.out).2.2.2.2.2.1.cells
            obtain ⟨d6, d7, d8, d9⟩ := (HQ.out _ HB11.out).2.1.cells
            by_cases hm1 : (3 : Int) = 1
            · have HM1 : Hid ((3 : Int) = 1) := hm1
              have hmb : ((3 : Int) == 1) = true := by simp; omega
              clear hm1
              go_wp2_with fail
              refine (specAdd4_any m a len ca xs x y _ (HQ.out _ HB11.out).2.2.1 hmm.1 hmm.2 hf (by omega)).mono ?_
              rintro e w12 ⟨vA, kA, rfl, hfit, hoA, hbA⟩
              obtain ⟨aA, cA, rfl⟩ := hoA.shape
              have hb12 : Below w4.heap.size w4 w12 := HB11.out.trans (hbA.mono HB11.out.size)
              have HEA : Hid _ := HEnd1.out HM1.out kA hfit
              have HF : Hid _ := HC.out _ _ _ _ m _ hb12 (by have h1 := HB11.out.size; have h2 := HZ4.out.1; omega) hoA
              have HD5 : Hid _ := HD.out w12 w9.heap.size _ _ _ _ (.int .i64 m) (.slice aA kA cA) HZ9.out (HO11.out.below hbA)
              obtain ⟨s4, s5, s6, s7⟩ := (HQ.out _ hb12).2.1.cells
              clear hfit hoA hbA hb12 d0 d1 d2 d3 d4 d5 d6 d7 d8 d9
              go_wp2_with fail
              obtain ⟨r0, r1⟩ := ret_tab HF.out.2.1
              refine bodyPost_ret (v := .tuple #[.slice a11 sn c11, .agg #[.int .i64 m, .slice aA kA cA]]) (by simp [results, Tryz.f44, go_sem, r0, r1]) rfl ?_
              exact ⟨S, _, _, _, kA, _, by rw [HSn.out], HSome.out _ _ (HLit.out _ HL11.out) HEA.out, by rw [HSn.out]; exact HD5.out, HF.out.2.2, HF.out.1⟩
            · have HM1 : Hid (¬ (3 : Int) = 1) := hm1
              have hmb : ((3 : Int) == 1) = false := by decide
              have hF0 := HC.out _ _ _ _ m _ HB11.out (Nat.le_refl _) (HQ.out _ HB11.out).2.2.2.2.2.2
              have HF : Hid _ := drew_all hF0.1 hF0.2.1 hF0.2.2
              have HD5 : Hid _ := drew_own (HD.out w11 w9.heap.size _ _ _ _ (.int .i64 m) (.slice a3 len c3) HZ9.out HO11.out)
              go_wp2_with fail
              go_region
              all_goals
                clear d0 d1 d2 d3 d4 d5 d6 d7 d8 d9
                go_wp2_with fail
                obtain ⟨r0, r1⟩ := ret_tab HF.out.2.1
                refine bodyPost_ret (v := .tuple #[.slice a11 sn c11, .agg #[.int .i64 m, .slice a3 len c3]]) (by simp only [World.cell?_drew] at r0 r1; simp [results, Tryz.f44, go_sem, r0, r1]) rfl ?_
                exact ⟨S, _, _, _, len, _, by rw [HSn.out], HSome.out _ _ (HLit.out _ HL11.out) (by first | exact .inr ⟨fun h => HM1.out h.1, rfl⟩ | exact .inr ⟨fun h => HM1.out h.1, trivial⟩ | simp), by rw [HSn.out]; exact HD5.out, HF.out.2.2, HF.out.1⟩
    · have HNo : Hid (¬ (okT m xs = true ∧ 1 ≤ mode ∧ mode ≤ 3)) := fun h => hm ⟨h.2.1, h.2.2⟩
      have HBW : Hid (Below w4.heap.size w4 w5) := HB5.out
      clear hok
      go_wp2_with fail
      refine (tin_no mode 1 3 _ (by omega)).mono ?_
      rintro e w6 ⟨rfl, rfl⟩
      obtain ⟨d0, d1, _, _⟩ := (HQ.out _ HBW.out).2.2.2.2.2.1.cells
      obtain ⟨e0, e1, e2, e3⟩ := (HQ.out _ HBW.out).2.1.cells
      obtain ⟨f0, f1, _, _⟩ := ((HQ.out _ HBW.out.drew).2.2.2.2.2.1.alloc (.cells #[] 5)).cells
      obtain ⟨g0, g1, g2, g3⟩ := ((HQ.out _ HBW.out.drew).2.1.alloc (.cells #[] 5)).cells
      have hbr : bs < w6.heap.size := (HQ.out _ HBW.out).2.2.2.2.2.1.lt
      have hbr1 : w.heap.size + 1 + 1 < w6.heap.size := (HQ.out _ HBW.out).2.1.lt
      have hbr2 : ¬ w6.heap.size = bs := by omega
      have hbr3 : ¬ bs = w6.heap.size := by omega
      have hbr4 : ¬ w6.heap.size = w.heap.size + 1 + 1 := by omega
      have hbr5 : ¬ w.heap.size + 1 + 1 = w6.heap.size := by omega
      go_wp2_with fail
      have hb6 : Below w4.heap.size w4 (w6.drew.alloc (.cells #[] 5)) := HBW.out.drew.alloc HBW.out.size _
      have hwz : w2.heap.size ≤ w6.heap.size := by have := HZ4.out.1; have := HBW.out.size; omega
      have ho6 : Owns (w6.drew.alloc (.cells #[] 5)) w6.heap.size (some ⟨w6.heap.size, 0, none⟩) 0 0 [] := ⟨⟨rfl, .inr ⟨w6.heap.size, 0, #[], rfl, Nat.le_refl _, heap_alloc_new w6.drew _, Nat.le_refl _, by decide, rfl, rfl⟩⟩, by simp⟩
      have HF : Hid _ := HC.out _ _ _ _ m _ hb6 (Nat.le_refl _) (HQ.out _ hb6).2.2.2.2.2.2
      have HD5 : Hid _ := HD.out _ w6.heap.size _ _ _ _ (.int .i64 m) (.slice a3 len c3) hwz ho6
      have hF2 := HC.out _ _ _ _ m _ HBW.out (Nat.le_refl _) (HQ.out _ HBW.out).2.2.2.2.2.2
      have HF2 : Hid _ := late_new hF2.1 hF2.2.1 hF2.2.2
      have HZ5 : Hid (w.heap.size ≤ w6.heap.size) := by have := HB2.out.size; show _ ≤ _; omega
      clear hb6 ho6 hF2
      go_region
      all_goals
        clear d0 d1 e0 e1 e2 e3 f0 f1 g0 g1 g2 g3 hbr hbr1 hbr2 hbr3 hbr4 hbr5
        go_wp2_with fail
        first
          | (obtain ⟨r0, r1⟩ := ret_tab HF.out.2.1
             refine bodyPost_ret (v := .tuple #[.slice (some ⟨w6.heap.size, 0, none⟩) 0 0, .agg #[.int .i64 m, .slice a3 len c3]]) (by simp [results, Tryz.f44, go_sem]) rfl ?_
             exact ⟨[], _, _, _, len, xs, rfl, .inr ⟨HNo.out, rfl, rfl⟩, HD5.out, HF.out.2.2, HF.out.1⟩)
          | (obtain ⟨r0, r1⟩ := ret_tab HF2.out.2.1
             refine bodyPost_ret (v := .tuple #[.slice (some ⟨w6.heap.size, 0, none⟩) 0 0, .agg #[.int .i64 m, .slice a3 len c3]]) (by simp only [World.cell?_drew] at r0 r1; simp [results, Tryz.f44, go_sem, r0, r1]) rfl ?_
             exact ⟨[], _, _, _, len, xs, rfl, .inr ⟨HNo.out, rfl, rfl⟩, HF2.out.2.2.2 _ (by simp) HZ5.out, HF2.out.2.2.1, HF2.out.1⟩)

end Go.Proofs.YtckpacifimpkgacGreat

namespace Go.Proofs.YtckpacifimpkgacGreat
open Go.RowKit
set_option linter.unusedVariables false

/-- Behind the call: the table that comes next lies in a variable of its own. -/
def PNx (w W : World) (bb b : Nat) (m : Int) (q : List Int) (ql g c : Nat) (va : Option Addr) (n vc : Nat) (ys : List Fld) (a2 : Option Addr) (n2 c2 : Nat) (zs : List Fld) (ra : Option Addr) (rl rc : Nat) (r : List Int) : Prop :=
  PSt w W bb m q ql g c va n vc ys ∧ Box2 W b 26 (.int .i64 m) (.slice a2 n2 c2) ∧ OwnF W w.heap.size (.slice a2 n2 c2) n2 zs ∧ Owns W w.heap.size ra rl rc r

theorem PNx.new {w W : World} {bb B : Nat} {m : Int} {q : List Int} {ql g c : Nat} {va : Option Addr} {n vc : Nat} {ys : List Fld} {a2 : Option Addr} {n2 c2 : Nat} {zs : List Fld} {ra : Option Addr} {rl rc : Nat} {r : List Int} (h : PSt w W bb m q ql g c va n vc ys) (hB : w.heap.size ≤ B) (ho : OwnF W B (.slice a2 n2 c2) n2 zs) (hr : Owns W B ra rl rc r) :
    PNx w (W.alloc (.cells #[.int .i64 m, .slice a2 n2 c2] 26)) bb W.heap.size m q ql g c va n vc ys a2 n2 c2 zs ra rl rc r := by
  have hn := (Below.refl W.heap.size W).alloc (Nat.le_refl _) (.cells #[.int .i64 m, .slice a2 n2 c2] 26)
  refine ⟨h.stays hn, Box2.new _ _ _ _, ?_, (hr.below hn).low hB⟩
  have := ho.stays hn
  exact ⟨own_down this.1 hB, this.2⟩

theorem PNx.put {w W : World} {bb b B : Nat} {m : Int} {q : List Int} {ql g c : Nat} {va : Option Addr} {n vc : Nat} {ys : List Fld} {a2 : Option Addr} {n2 c2 : Nat} {zs : List Fld} {ra : Option Addr} {rl rc : Nat} {r : List Int} (h : PSt w W bb m q ql g c va n vc ys) (hB : w.heap.size ≤ B) (ho : OwnF W B (.slice a2 n2 c2) n2 zs) (hr : Owns W B ra rl rc r) (hq : Box2 W b 26 (.int .i64 0) (.slice none 0 0)) (h1 : w.heap.size ≤ b) (h2 : bb ≠ b) (h3 : w.heap.size + 1 ≠ b) :
    PNx w ((W.setCell ⟨b, 0, none⟩ (.int .i64 m)).setCell ⟨b, 1, none⟩ (.slice a2 n2 c2)) bb b m q ql g c va n vc ys a2 n2 c2 zs ra rl rc r := by
  obtain ⟨g1, g2, g3, g4, g5, g6⟩ := h
  refine ⟨⟨(g1.setCell (p := ⟨b, 0, none⟩) h1 _).setCell (p := ⟨b, 1, none⟩) h1 _, g2, ?_, ?_, owns_setTwo g5 hq _ _, ownF_setTwo g6 hq _ _⟩, two_set1 (two_set0 hq _) _, ?_, (owns_setTwo hr hq _ _).low hB⟩
  · show _ = _
    rw [set_block_other _ _ _ _ _ h3, set_block_other _ _ _ _ _ h3]
    exact g3
  · show _ = _
    rw [set_block_other _ _ _ _ _ h2, set_block_other _ _ _ _ _ h2]
    exact g4
  · have := ownF_setTwo ho hq (.int .i64 m) (.slice a2 n2 c2)
    exact ⟨own_down this.1 hB, this.2⟩

theorem PNx.app {w W W' : World} {bb b : Nat} {m : Int} {q : List Int} {ql g c : Nat} {va : Option Addr} {n vc : Nat} {ys : List Fld} {a2 : Option Addr} {n2 c2 : Nat} {zs : List Fld} {ra : Option Addr} {rl rc : Nat} {r : List Int} {g' c' : Nat} (h : PNx w W bb b m q ql g c va n vc ys a2 n2 c2 zs ra rl rc r) (hg : W.grownBy W' (some g)) (ho : W'.ownsRow w.heap.size 5 1 (.slice (some ⟨g', 0, none⟩) (ql + rl) c') (ql + rl) (q.map (Value.int .u8) ++ r.map (Value.int .u8))) :
    PSt w W' bb m (q ++ r) (ql + rl) g' c' va n vc ys ∧ Box2 W' b 26 (.int .i64 m) (.slice a2 n2 c2) ∧ OwnF W' w.heap.size (.slice a2 n2 c2) n2 zs := by
  obtain ⟨h1, h2, h3, h4⟩ := h
  obtain ⟨cur, hgb⟩ : ∃ cur : Array Value, W.heap[g]? = some (.cells cur 5 (0, 0)) := by
    rcases h1.2.2.2.2.1.1.2 with ⟨h, _⟩ | ⟨g2, cap2, cur, heq, _, hg2, _⟩
    · cases h
    · injection heq with e3 _ _
      injection e3 with e3
      injection e3 with e3
      subst e3
      exact ⟨cur, hg2⟩
  refine ⟨h1.app hg ho h4.2, h2.grown hg (fun e => ?_), h3.grown hg (.inr (own_other' h3.1 hgb (by decide)))⟩
  have := owns_apart2 h1.2.2.2.2.1 h2
  rw [ownBlock_slice] at this
  exact this e

set_option maxRecDepth 10000 in
set_option maxHeartbeats 3200000 in
theorem specPuts_any (m : Int) (a : Option Addr) (len ca : Nat) (xs : List Fld) (la : Option Addr) (ll lc : Nat) (L : List Fld) (w : World) (hx : Flds w a len xs) (hL : Flds w la ll L) (hl : len + ll + fldBytes xs + fldBytes L ≤ 1048576) :
    Calls Tryz.prog 20 #[.agg #[.int .i64 m, .slice a len ca], .slice la ll lc] w fun e w' => ∃ (q : List Int) (a' : Option Addr) (c' : Nat) (v : Value) (n : Nat) (ys : List Fld), e = .returned (.tuple #[.slice a' q.length c', .agg #[.int .i64 m, v]]) ∧ PutN L m xs ll q ys ∧ Owns w' w.heap.size a' q.length c' q ∧ OwnF w' w.heap.size v n ys ∧ Below w.heap.size w w' := by
  obtain ⟨i0, hi, hz0, hz1, hz2⟩ := info_parts Tryz.info5
  have HX : Hid (Flds w a len xs) := hx
  have HL : Hid (Flds w la ll L) := hL
  have hlen := hx.1
  have hll := hL.1
  clear hx hL
  obtain ⟨w2, hw2⟩ : ∃ w2, ((w.alloc (.cells #[.int .i64 m, .slice a len ca] 26)).alloc (.cells #[.int .i64 0, .slice none 0 0] 26)) = w2 := ⟨_, rfl⟩
  have q1 : Box2 w2 w.heap.size 26 (.int .i64 m) (.slice a len ca) := by rw [← hw2]; exact (Box2.new _ _ _ _).alloc _
  have q2 : Box2 w2 (w.heap.size + 1) 26 (.int .i64 0) (.slice none 0 0) := by
    rw [← hw2]
    have := Box2.new (w.alloc (.cells #[.int .i64 m, .slice a len ca] 26)) 26 (.int .i64 0) (.slice none 0 0)
    rwa [World.size_alloc] at this
  have HB2 : Hid (Below w.heap.size w w2) := by show Below _ _ _; rw [← hw2]; exact ((Below.refl _ _).alloc (Nat.le_refl _) _).alloc (by simp) _
  have HW2 : Hid (w2.heap.size = w.heap.size + 2) := by show _ = _; rw [← hw2]; simp
  have HQ2 : Hid (Box2 w2 (w.heap.size + 1) 26 (.int .i64 0) (.slice none 0 0)) := q2
  obtain ⟨c0, c1, _, _⟩ := q1.cells
  clear q2
  obtain ⟨w3, hw3⟩ : ∃ w3, w2.alloc (.cells #[] 5) = w3 := ⟨_, rfl⟩
  have hb3 : Below w2.heap.size w2 w3 := by rw [← hw3]; exact (Below.refl _ _).alloc (Nat.le_refl _) _
  have HO3 : Hid (Owns w3 w2.heap.size (some ⟨w2.heap.size, 0, none⟩) 0 0 []) := by
    show Owns _ _ _ _ _ _
    rw [← hw3]
    exact ⟨⟨rfl, .inr ⟨w2.heap.size, 0, #[], rfl, Nat.le_refl _, heap_alloc_new w2 _, Nat.le_refl _, by decide, rfl, rfl⟩⟩, by simp⟩
  have HB3 : Hid (Below w2.heap.size w2 w3) := hb3
  obtain ⟨d0, d1, _, _⟩ := (q1.stays hb3).cells
  clear hb3 q1
  go_enter Tryz.func20, Tryz.ntmps20
  go_wp2_with fail
  refine (specCopy_any m a len ca xs _ (HX.out.below (HB2.out.trans (HB3.out.mono HB2.out.size))) (by omega)).mono ?_
  rintro e w4 ⟨v4, rfl, how4, hb4⟩
  obtain ⟨a4, c4, rfl⟩ := how4.shape
  have HS4 : Hid (PSt w (w4.alloc (.cells #[.int .i64 m, .slice a4 len c4] 26)) w4.heap.size m [] 0 w2.heap.size 0 a4 len c4 xs) := by
    have hb24 : Below w2.heap.size w2 w4 := HB3.out.trans (hb4.mono HB3.out.size)
    have hn := (Below.refl w4.heap.size w4).alloc (Nat.le_refl _) (.cells #[.int .i64 m, .slice a4 len c4] 26)
    have hs := HW2.out
    have hs4 := hb24.size
    have hs3 := HB3.out.size
    have hb5 : Below w.heap.size w w4 := HB2.out.trans (hb24.mono HB2.out.size)
    refine ⟨hb5.alloc hb5.size _, by omega, (HQ2.out.stays hb24).stays hn, Box2.new _ _ _ _, ?_, ?_⟩
    · exact ((HO3.out.below hb4).below hn).low (by omega)
    · have := how4.stays hn
      exact ⟨own_down this.1 (by omega), this.2⟩
  clear hb4 how4 HO3 HB3 HQ2 c0 c1 d0 d1 hw2 hw3
  go_wp2_with fail
  obtain ⟨bb, hbb⟩ : ∃ bb, w4.heap.size = bb := ⟨_, rfl⟩
  obtain ⟨w5, hw5⟩ : ∃ w5, w4.alloc (.cells #[.int .i64 m, .slice a4 len c4] 26) = w5 := ⟨_, rfl⟩
  rw [hw5, hbb] at HS4
  rw [hw5, hbb]
  clear hw5 hbb
  go_loopw [6, 8] (fun v i wr => ∃ (k : Nat) (q : List Int) (ql g c : Nat) (va : Option Addr) (n vc : Nat) (ys : List Fld), k ≤ ll ∧ i = .int .i64 k ∧ v = .slice (some ⟨g, 0, none⟩) ql c ∧ Hid (q.length = ql) ∧ Hid (PutN L m xs k q ys) ∧ Hid (PSt w wr bb m q ql g c va n vc ys)) (fun _ i _ => ll - (intOf i).toNat)
  case atStart => exact ⟨0, [], 0, _, 0, a4, len, c4, xs, Nat.zero_le _, rfl, rfl, rfl, ⟨rfl, rfl⟩, HS4⟩
  case round =>
    clear HS4
    obtain ⟨k, q, ql, g, c, va, n, vc, ys, hk, rfl, rfl, HQL, HP, HS⟩ := hrel
    have hfit := HP.out.fits
    have hyn : ys.length = n := HS.out.2.2.2.2.2.len
    have hql := HQL.out
    by_cases hlt : k < ll
    · obtain ⟨ba, oa, x, y, rfl, hba, hfa, ha0, ha1⟩ := HL.out.at hlt
      have ga0 : wr.cell? ⟨ba, oa + k * 2, none⟩ = some (.string x) := (HS.out.1.cell (p := ⟨ba, _, none⟩) hba).trans ha0
      have ga1 : wr.cell? ⟨ba, oa + k * 2 + 1, none⟩ = some (.string y) := (HS.out.1.cell (p := ⟨ba, _, none⟩) hba).trans ha1
      have hst := fldBytes_step L k x y hfa
      have hle := fldBytes_take L (k + 1)
      have hbd : n + (x.size + y.size) + fldBytes ys ≤ 1048576 := by omega
      have hqb : ql + (x.size + y.size + 18) ≤ 100000000 := by omega
      have hxs : x.size ≤ maxLen := by unfold maxLen; omega
      have hys : y.size ≤ maxLen := by unfold maxLen; omega
      have HF : Hid (L[k]? = some (x, y)) := hfa
      clear hfa hst hle hfit hyn hql
      have hki : (k : Int) < (ll : Int) := by omega
      have hk0 : (0 : Int) ≤ (k : Int) := by omega
      have HSd : Hid (PSt w wr.drew bb m q ql g c va n vc ys) := HS.out.stays (Below.refl _ _).drew
      have HSa : Hid (PSt w (wr.drew.alloc (.cells #[.int .i64 0, .slice none 0 0] 26)) bb m q ql g c va n vc ys) := HSd.out.stays ((Below.refl _ _).alloc (Nat.le_refl _) _)
      have HBa : Hid (Box2 (wr.drew.alloc (.cells #[.int .i64 0, .slice none 0 0] 26)) wr.heap.size 26 (.int .i64 0) (.slice none 0 0)) := Box2.new _ _ _ _
      have hlb : bb < wr.heap.size := HS.out.2.2.2.1.lt
      have hlw : w.heap.size + 1 < bb := HS.out.2.1
      have HZ : Hid (w.heap.size ≤ wr.heap.size ∧ bb ≠ wr.heap.size ∧ w.heap.size + 1 ≠ wr.heap.size) := ⟨by omega, by omega, by omega⟩
      have hn1 : ¬ bb = wr.heap.size := by omega
      have hn2 : ¬ wr.heap.size = bb := by omega
      have hn3 : ¬ ba = wr.heap.size := by omega
      have hn4 : ¬ wr.heap.size = ba := by omega
      obtain ⟨u0, u1, _, _⟩ := HS.out.2.2.2.1.cells
      by_cases hsx : (x.toList == [97, 117, 116, 104, 111, 114, 105, 122, 97, 116, 105, 111, 110]) = true
      · have HMd : Hid (fmode x = 3) := by show _ = _; rw [fmode, if_pos hsx]
        go_upto_region 9 with fail
        go_region_held3 (fun W => W.cell? ⟨bb, 0, none⟩ = some (.int .i64 m) ∧ W.cell? ⟨bb, 1, none⟩ = some (.slice va n vc) ∧ W.cell? ⟨ba, oa + k * 2, none⟩ = some (.string x) ∧ W.cell? ⟨ba, oa + k * 2 + 1, none⟩ = some (.string y)) (first | (refine ⟨?_, ?_, ?_, ?_⟩ <;> assumption) | (refine ⟨?_, ?_, ?_, ?_⟩ <;> (simp [go_sem, *]; done)) | go_keep) (first
          | (go_at_call 44; refine (specPutF_any m va n vc ys x y 3 _ (by first | exact HSd.out.2.2.2.2.2.flds | exact HSa.out.2.2.2.2.2.flds) ⟨hxs, hys⟩ hbd).mono ?_; rintro e x2 ⟨r, ra, rc, v2, n2, zs, rfl, hadd, hor, how, hb⟩; obtain ⟨a2, c2, rfl⟩ := how.shape
             first
               | (have hs2 := HSa.out.stays hb
                  have hbx := HBa.out.stays hb
                  have HPut := hidden (PNx.put hs2 HSa.out.1.size how hor hbx HZ.out.1 HZ.out.2.1 HZ.out.2.2)
                  obtain ⟨q0, q1, q2, q3⟩ := hbx.cells)
               | (have hs2 := HSd.out.stays hb
                  have HPut := hidden (PNx.new hs2 HSd.out.1.size how hor)
                  have hlt3 : bb < x2.heap.size := hs2.2.2.2.1.lt
                  have hlt4 : ¬ bb = x2.heap.size := (by omega)
                  have hlt5 : ¬ x2.heap.size = bb := (by omega)
                  have hlt6 : ba < x2.heap.size := (Nat.lt_of_lt_of_le hba hs2.1.size)
                  have hlt7 : ¬ ba = x2.heap.size := (by omega)
                  have hlt8 : ¬ x2.heap.size = ba := (by omega))
               | fail
             obtain ⟨s0, s1, _, _⟩ := hs2.2.2.2.1.cells
             have s2 := (hs2.1.cell (p := ⟨ba, oa + k * 2, none⟩) hba).trans ha0
             have s3 := (hs2.1.cell (p := ⟨ba, oa + k * 2 + 1, none⟩) hba).trans ha1)
          | fail)
        all_goals
          obtain ⟨rl, hrl⟩ : ∃ rl, r.length = rl := ⟨_, rfl⟩
          have HAdd : Hid (PutAns m ys x y (fmode x) r zs) := by show PutAns _ _ _ _ _ _ _; rw [HMd.out]; exact hadd
          have hrl2 : rl ≤ x.size + y.size + 18 := by have := hadd.fits.2.2; omega
          rw [hrl] at HPut ⊢
          have HRL : Hid (r.length = rl) := hrl
          clear hadd hor how hb hrl hs2 u0 u1 ga0 ga1
          have HSrc : Hid (Src Tryz.prog 1 22 (.slice ra rl rc) rl (r.map (Value.int .u8)) _) := Src.ofSeg Tryz.underlying22 HPut.out.2.2.2.seg HPut.out.2.2.2.none
          have hA : ql + rl ≤ maxLen := by unfold maxLen; omega
          have hA2 : (ql + rl) * 1 ≤ 140737488355328 := by omega
          go_wp2_with (at_builtin; refine wpList_append_got rfl _ _ 22 22 rfl w.heap.size 5 i0 (.int .u8 0) 1 1 Tryz.underlying22 hi hz0 hz1 hz2 rfl (by decide) g ql c (q.map (Value.int .u8)) rfl HPut.out.1.2.2.2.2.1.1 (.slice ra rl rc) rl (r.map (Value.int .u8)) rfl HSrc.out hA hA2 HPut.out.1.1.size ?_; intro g' c' x4 hown hgrow; refine Hid.out ?_)
          refine hidden ?_
          have hap := HPut.out.app hgrow hown
          have HS5 := hidden (hap.1.put (Nat.le_refl _) hap.2.2)
          obtain ⟨t0, t1, _, _⟩ := hap.2.1.cells
          obtain ⟨t2, t3, t4, t5⟩ := hap.1.2.2.2.1.cells
          clear hown hgrow HPut HSrc hA hA2 hap
          go_wp2
          go_roundw
          case rel =>
            refine ⟨k + 1, q ++ r, ql + rl, g', c', a2, n2, c2, zs, by omega, by go_num, rfl, ?_, ⟨q, ys, x, y, r, HP.out, HF.out, HAdd.out, rfl⟩, HS5⟩
            show _ = _
            rw [List.length_append, HQL.out, HRL.out]
          case measure => simp [intOf]; omega
      · have HMd : Hid (fmode x = 1) := by show _ = _; rw [fmode, if_neg hsx]
        have hs1 : (x.toList == [97, 117, 116, 104, 111, 114, 105, 122, 97, 116, 105, 111, 110]) = false := by simpa using hsx
        clear hsx
        go_upto_region 9 with fail
        go_region_held3 (fun W => W.cell? ⟨bb, 0, none⟩ = some (.int .i64 m) ∧ W.cell? ⟨bb, 1, none⟩ = some (.slice va n vc) ∧ W.cell? ⟨ba, oa + k * 2, none⟩ = some (.string x) ∧ W.cell? ⟨ba, oa + k * 2 + 1, none⟩ = some (.string y)) (first | (refine ⟨?_, ?_, ?_, ?_⟩ <;> assumption) | (refine ⟨?_, ?_, ?_, ?_⟩ <;> (simp [go_sem, *]; done)) | go_keep) (first
          | (go_at_call 44; refine (specPutF_any m va n vc ys x y 1 _ (by first | exact HSd.out.2.2.2.2.2.flds | exact HSa.out.2.2.2.2.2.flds) ⟨hxs, hys⟩ hbd).mono ?_; rintro e x2 ⟨r, ra, rc, v2, n2, zs, rfl, hadd, hor, how, hb⟩; obtain ⟨a2, c2, rfl⟩ := how.shape
             first
               | (have hs2 := HSa.out.stays hb
                  have hbx := HBa.out.stays hb
                  have HPut := hidden (PNx.put hs2 HSa.out.1.size how hor hbx HZ.out.1 HZ.out.2.1 HZ.out.2.2)
                  obtain ⟨q0, q1, q2, q3⟩ := hbx.cells)
               | (have hs2 := HSd.out.stays hb
                  have HPut := hidden (PNx.new hs2 HSd.out.1.size how hor)
                  have hlt3 : bb < x2.heap.size := hs2.2.2.2.1.lt
                  have hlt4 : ¬ bb = x2.heap.size := (by omega)
                  have hlt5 : ¬ x2.heap.size = bb := (by omega)
                  have hlt6 : ba < x2.heap.size := (Nat.lt_of_lt_of_le hba hs2.1.size)
                  have hlt7 : ¬ ba = x2.heap.size := (by omega)
                  have hlt8 : ¬ x2.heap.size = ba := (by omega))
               | fail
             obtain ⟨s0, s1, _, _⟩ := hs2.2.2.2.1.cells
             have s2 := (hs2.1.cell (p := ⟨ba, oa + k * 2, none⟩) hba).trans ha0
             have s3 := (hs2.1.cell (p := ⟨ba, oa + k * 2 + 1, none⟩) hba).trans ha1)
          | fail)
        all_goals
          obtain ⟨rl, hrl⟩ : ∃ rl, r.length = rl := ⟨_, rfl⟩
          have HAdd : Hid (PutAns m ys x y (fmode x) r zs) := by show PutAns _ _ _ _ _ _ _; rw [HMd.out]; exact hadd
          have hrl2 : rl ≤ x.size + y.size + 18 := by have := hadd.fits.2.2; omega
          rw [hrl] at HPut ⊢
          have HRL : Hid (r.length = rl) := hrl
          clear hadd hor how hb hrl hs2 u0 u1 ga0 ga1
          have HSrc : Hid (Src Tryz.prog 1 22 (.slice ra rl rc) rl (r.map (Value.int .u8)) _) := Src.ofSeg Tryz.underlying22 HPut.out.2.2.2.seg HPut.out.2.2.2.none
          have hA : ql + rl ≤ maxLen := by unfold maxLen; omega
          have hA2 : (ql + rl) * 1 ≤ 140737488355328 := by omega
          go_wp2_with (at_builtin; refine wpList_append_got rfl _ _ 22 22 rfl w.heap.size 5 i0 (.int .u8 0) 1 1 Tryz.underlying22 hi hz0 hz1 hz2 rfl (by decide) g ql c (q.map (Value.int .u8)) rfl HPut.out.1.2.2.2.2.1.1 (.slice ra rl rc) rl (r.map (Value.int .u8)) rfl HSrc.out hA hA2 HPut.out.1.1.size ?_; intro g' c' x4 hown hgrow; refine Hid.out ?_)
          refine hidden ?_
          have hap := HPut.out.app hgrow hown
          have HS5 := hidden (hap.1.put (Nat.le_refl _) hap.2.2)
          obtain ⟨t0, t1, _, _⟩ := hap.2.1.cells
          obtain ⟨t2, t3, t4, t5⟩ := hap.1.2.2.2.1.cells
          clear hown hgrow HPut HSrc hA hA2 hap
          go_wp2
          go_roundw
          case rel =>
            refine ⟨k + 1, q ++ r, ql + rl, g', c', a2, n2, c2, zs, by omega, by go_num, rfl, ?_, ⟨q, ys, x, y, r, HP.out, HF.out, HAdd.out, rfl⟩, HS5⟩
            show _ = _
            rw [List.length_append, HQL.out, HRL.out]
          case measure => simp [intOf]; omega
    · obtain rfl : k = ll := by omega
      have hki : ¬ (k : Int) < (k : Int) := by omega
      obtain ⟨c0, c1, _, _⟩ := HS.out.2.2.2.1.cells
      obtain ⟨c2, c3, c4', c5⟩ := HS.out.2.2.1.cells
      have HFn : Hid _ := HS.out.fin
      clear hfit hyn hql
      go_wp2_with fail
      go_region
      all_goals
        clear c0 c1 c4' c5
        go_wp2_with fail
        refine bodyPost_ret (v := .tuple #[.slice (some ⟨g, 0, none⟩) ql c, .agg #[.int .i64 m, .slice va n vc]]) (by simp [results, Tryz.f20, go_sem, c2, c3]) rfl ?_
        exact ⟨q, _, _, _, n, ys, by rw [HQL.out], HP.out, by rw [HQL.out]; exact HFn.out.2.2.1, HFn.out.2.2.2, HFn.out.1⟩

end Go.Proofs.YtckpacifimpkgacGreat
