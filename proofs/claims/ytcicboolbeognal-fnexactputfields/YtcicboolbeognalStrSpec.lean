/- What the specification's PutString answers. For lists of at most 2^40 bytes and texts of at most 2^24. -/
import Derived.Test.YtcicboolbeognalStrNums
import Derived.Test.YtcicboolbeognalPfxAny
import Derived.Test.YtcicboolbeognalHufHuff
namespace Go.Proofs.Ytcicboolbeognal
open Go.RowKit
set_option linter.unusedVariables false

set_option maxRecDepth 10000 in
set_option maxHeartbeats 800000 in
theorem specPutS_any (b off len cap : Nat) (s : ByteArray) (zs : List Int) (w : World) (hs : Seg w (some ⟨b, off, none⟩) len zs) (hl : len ≤ 1099511627776) (hsl : s.size ≤ 16777216) :
    Calls Try.prog 9 #[.slice (some ⟨b, off, none⟩) len cap, .string s] w fun e w' => ∃ (q : List Int) (a' : Option Addr) (cap' : Nat), StrOf s q ∧ e = .returned (.slice a' (zs ++ q).length cap') ∧ Owns w' w.heap.size a' (zs ++ q).length cap' (zs ++ q) ∧ Below w.heap.size w w' := by
  obtain ⟨i0, hi, hz0, hz1, hz2⟩ := info_parts Try.info5
  have HS : Hid (Seg w (some ⟨b, off, none⟩) len zs) := hs
  have hzl : zs.length = len := hs.1
  clear hs
  go_enter Try.func9, Try.ntmps9
  go_wp2_with fail
  refine (specHuff_any s _ (by omega)).mono ?_
  rintro e w1 ⟨o, a1, c1, rfl, ow1, hf1, hb1⟩
  have HB1 : Hid (Below w.heap.size w w1) := hb1
  obtain ⟨n, hn⟩ : ∃ n : Nat, (bitLen s.data.toList + 7) / 8 = n := ⟨_, rfl⟩
  have HE : Hid ((bitLen s.data.toList + 7) / 8 = n) := hn
  have hol : o.length = n := by rw [hf1.len, hn]
  have HOL : Hid (o.length = n) := hol
  have HF : Hid (HuffOf s.data.toList o) := hf1
  have HH1 : Hid (Owns w1 w.heap.size a1 n c1 o) := by rw [← hol]; exact ow1
  rw [hol]
  clear hb1 hn hol hf1 ow1
  by_cases hlt : n < s.size
  · have hd : decide ((n : Int) < (s.size : Int)) = true := by simp; omega
    have hdp : ((n : Int) < (s.size : Int)) = True := by simp; omega
    go_wp2_with fail
    refine (specPfx_any b off len cap 7 128 (n : Int) zs _ (HS.out.below HB1.out) hl).mono ?_
    rintro e w2 ⟨a2, c2, rfl, ow2, hb2⟩
    have hmin : putPfx zs 7 128 (n : Int) = zs ++ pfx 7 128 n := by
      rw [putPfx, if_pos (by decide)]
      congr 2
      omega
    rw [hmin] at ow2 ⊢
    clear hmin
    have HH2 : Hid (Owns w2 w.heap.size a1 n c1 o) := HH1.out.below hb2
    have hpl : 0 < (pfx 7 128 n).length := by unfold pfx; split <;> simp
    have hpl6 := pfx_len 7 128 n
    obtain ⟨g, rfl, hg1, hg2⟩ := ow2.some (by rw [List.length_append]; omega)
    have HO2 : Hid (Owns w2 w1.heap.size (some ⟨g, 0, none⟩) (zs ++ pfx 7 128 n).length c2 (zs ++ pfx 7 128 n)) := ow2
    have HB2 : Hid (Below w.heap.size w w2) := HB1.out.trans (hb2.mono HB1.out.size)
    have HZ1 : Hid (w.heap.size ≤ w1.heap.size) := HB1.out.size
    clear ow2 hb2 HB1
    have hll : (zs ++ pfx 7 128 n).length = len + (pfx 7 128 n).length := by rw [List.length_append, hzl]
    have HR : Hid (∀ x ∈ zs ++ pfx 7 128 n, 0 ≤ x ∧ x ≤ 255) := HO2.out.2
    generalize hP : zs ++ pfx 7 128 n = P at *
    have HP : Hid (zs ++ pfx 7 128 n = P) := hP
    clear hP
    generalize hpn : P.length = pn at *
    have hpb : pn ≤ len + 6 := by omega
    have HPn : Hid (P.length = pn) := hpn
    clear hpn hll hpl hpl6
    have HSrc : Hid (Src Try.prog 1 22 (.slice a1 n c1) n (o.map (Value.int .u8)) w2) := Src.ofSeg Try.underlying22 HH2.out.seg HH2.out.none
    have HBs : Hid (w1.heap.size ≤ w2.heap.size) := by have h1 := (HO2.out.lt g rfl); show _ ≤ _; omega
    have hA : pn + n ≤ maxLen := by unfold maxLen; omega
    have hA2 : (pn + n) * 1 ≤ 140737488355328 := by omega
    go_wp2_with (at_builtin; refine wpList_append_any rfl _ _ 22 22 rfl w1.heap.size 5 i0 (.int .u8 0) 1 1 Try.underlying22 hi hz0 hz1 hz2 rfl (by decide) g pn c2 (P.map (Value.int .u8)) rfl HO2.out.1 (.slice a1 n c1) n (o.map (Value.int .u8)) rfl HSrc.out hA hA2 HBs.out ?_; intro v4 w4 hown hgrow; refine Hid.out ?_)
    refine hidden ?_
    obtain ⟨a4, c4, rfl⟩ := shape_of_owns hown
    have HB4 : Hid (Below w.heap.size w w4) := HB2.out.grown hgrow (by have := HB2.out.size; omega) (fun k hk => by injection hk with hk; have := HZ1.out; omega)
    have HO4 : Hid (w4.ownsRow w1.heap.size 5 1 (.slice a4 (pn + n) c4) (pn + n) (P.map (Value.int .u8) ++ o.map (Value.int .u8))) := hown
    clear hown hgrow HO2 HSrc HB2
    go_wp2_with fail
    go_ret
    refine ⟨pfx 7 128 n ++ o, a4, c4, by rw [StrOf, HE.out]; exact .inl ⟨hlt, o, HF.out, by rw [HOL.out]⟩, ?_, ⟨?_, ?_⟩, HB4.out⟩
    · rw [← List.append_assoc, HP.out, List.length_append, HPn.out, HOL.out]
      rfl
    · rw [← List.append_assoc, HP.out, List.length_append, HPn.out, HOL.out, List.map_append]
      exact own_lower HO4.out HZ1.out
    · intro x hx
      rw [← List.append_assoc, HP.out] at hx
      rcases List.mem_append.1 hx with hx | hx
      · exact HR.out x hx
      · exact HF.out.1 x hx
  · have hd : decide ((n : Int) < (s.size : Int)) = false := by simp; omega
    have hdp : ((n : Int) < (s.size : Int)) = False := by simp; omega
    go_wp2_with fail
    refine (specPfx_any b off len cap 7 0 (s.size : Int) zs _ (HS.out.below HB1.out) hl).mono ?_
    rintro e w2 ⟨a2, c2, rfl, ow2, hb2⟩
    have hmin : putPfx zs 7 0 (s.size : Int) = zs ++ pfx 7 0 s.size := by
      rw [putPfx, if_pos (by decide)]
      congr 2
      omega
    rw [hmin] at ow2 ⊢
    clear hmin
    have hpl : 0 < (pfx 7 0 s.size).length := by unfold pfx; split <;> simp
    have hpl6 := pfx_len 7 0 s.size
    obtain ⟨g, rfl, hg1, hg2⟩ := ow2.some (by rw [List.length_append]; omega)
    have HO2 : Hid (Owns w2 w1.heap.size (some ⟨g, 0, none⟩) (zs ++ pfx 7 0 s.size).length c2 (zs ++ pfx 7 0 s.size)) := ow2
    have HB2 : Hid (Below w.heap.size w w2) := HB1.out.trans (hb2.mono HB1.out.size)
    have HZ1 : Hid (w.heap.size ≤ w1.heap.size) := HB1.out.size
    clear ow2 hb2 HB1
    have hll : (zs ++ pfx 7 0 s.size).length = len + (pfx 7 0 s.size).length := by rw [List.length_append, hzl]
    have HR : Hid (∀ x ∈ zs ++ pfx 7 0 s.size, 0 ≤ x ∧ x ≤ 255) := HO2.out.2
    have HBs : Hid (w1.heap.size ≤ w2.heap.size) := by have h1 := (HO2.out.lt g rfl); show _ ≤ _; omega
    generalize hP : zs ++ pfx 7 0 s.size = P at *
    have HP : Hid (zs ++ pfx 7 0 s.size = P) := hP
    clear hP
    generalize hpn : P.length = pn at *
    have hpb : pn ≤ len + 6 := by omega
    have HPn : Hid (P.length = pn) := hpn
    clear hpn hll hpl hpl6
    have HSrc : Hid (Src Try.prog 1 9 (.string s) s.size (byteCells s) w2) := Src.ofString w2 Try.underlying9 s
    have hA : pn + s.size ≤ maxLen := by unfold maxLen; omega
    have hA2 : (pn + s.size) * 1 ≤ 140737488355328 := by omega
    go_wp2_with (at_builtin; refine wpList_append_any rfl _ _ 22 9 rfl w1.heap.size 5 i0 (.int .u8 0) 1 1 Try.underlying22 hi hz0 hz1 hz2 rfl (by decide) g pn c2 (P.map (Value.int .u8)) rfl HO2.out.1 (.string s) s.size (byteCells s) rfl HSrc.out hA hA2 HBs.out ?_; intro v4 w4 hown hgrow; refine Hid.out ?_)
    refine hidden ?_
    obtain ⟨a4, c4, rfl⟩ := shape_of_owns hown
    have HB4 : Hid (Below w.heap.size w w4) := HB2.out.grown hgrow (by have := HB2.out.size; omega) (fun k hk => by injection hk with hk; have := HZ1.out; omega)
    have HO4 : Hid (w4.ownsRow w1.heap.size 5 1 (.slice a4 (pn + s.size) c4) (pn + s.size) (P.map (Value.int .u8) ++ byteCells s)) := hown
    clear hown hgrow HO2 HSrc HB2
    go_wp2_with fail
    go_ret
    refine ⟨pfx 7 0 s.size ++ asInts s.data.toList, a4, c4, by rw [StrOf, HE.out]; exact .inr ⟨hlt, rfl⟩, ?_, ⟨?_, ?_⟩, HB4.out⟩
    · rw [← List.append_assoc, HP.out, List.length_append, HPn.out, asInts_len, str_len]
      rfl
    · rw [← List.append_assoc, HP.out, List.length_append, HPn.out, asInts_len, str_len, List.map_append, ← byteCells_ints]
      exact own_lower HO4.out HZ1.out
    · intro x hx
      rw [← List.append_assoc, HP.out] at hx
      rcases List.mem_append.1 hx with hx | hx
      · exact HR.out x hx
      · exact asInts_range _ x hx

end Go.Proofs.Ytcicboolbeognal
