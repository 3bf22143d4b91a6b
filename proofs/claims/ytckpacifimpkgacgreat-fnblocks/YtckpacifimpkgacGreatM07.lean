/- What the program's PutString answers. For lists of at most 2^40 bytes and texts of at most 2^24. Fields: a name and a value; rows of fields in memory; the first fields. No program in it. Rows of fields that are made and filled. The newest fields of a table, as many as fit: there is just one such number; no program in it. Rows of fields that a call has made. No statement of the program but its table of types. -/
import Derived.Test.YtckpacifimpkgacGreatM03
import Derived.Test.YtckpacifimpkgacGreatM04
import Derived.Test.YtckpacifimpkgacGreatM06
import Derived.Test.YtckpacifimpkgacGreatM01
import Derived.Deep.QuietTactic
namespace Go.Proofs.YtckpacifimpkgacGreat
open Go.RowKit
set_option linter.unusedVariables false

set_option maxRecDepth 10000 in
set_option maxHeartbeats 800000 in
theorem implPutS_any (sa : Option Addr) (len cap : Nat) (s : ByteArray) (zs : List Int) (w : World) (hs : Seg w sa len zs) (hl : len ≤ 1099511627776) (hsl : s.size ≤ 16777216) :
    Calls Tryz.prog 55 #[.slice sa len cap, .string s] w fun e w' => ∃ (q : List Int) (a' : Option Addr) (cap' : Nat), StrOf s q ∧ e = .returned (.slice a' (zs ++ q).length cap') ∧ Owns w' w.heap.size a' (zs ++ q).length cap' (zs ++ q) ∧ Below w.heap.size w w' := by
  obtain ⟨i0, hi, hz0, hz1, hz2⟩ := info_parts Tryz.info5
  have HS : Hid (Seg w sa len zs) := hs
  have hzl : zs.length = len := hs.1
  clear hs
  go_enter Tryz.func55, Tryz.ntmps55
  go_wp2_with fail
  refine (implHLen_any s _ (by omega)).mono ?_
  rintro e w1 ⟨rfl, hb1⟩
  have HB1 : Hid (Below w.heap.size w w1) := hb1
  clear hb1
  obtain ⟨n, hn⟩ : ∃ n : Nat, (bitLen s.data.toList + 7) / 8 = n := ⟨_, rfl⟩
  rw [hn]
  have HN : Hid (∀ o, HuffOf s.data.toList o → o.length = n) := fun o h => by rw [h.len, hn]
  have HE : Hid ((bitLen s.data.toList + 7) / 8 = n) := hn
  clear hn
  by_cases hlt : n < s.size
  · have hd : decide ((n : Int) < (s.size : Int)) = true := by simp; omega
    have hdp : ((n : Int) < (s.size : Int)) = True := by simp; omega
    go_wp2_with fail
    refine (implPfx_good sa len cap 7 128 (n : Int) zs _ (HS.out.below HB1.out) hl (by decide) (by decide) (by decide)).mono ?_
    rintro e w2 ⟨a2, c2, rfl, ow2, hb2⟩
    have hmin : (min (n : Int) 16777216).toNat = n := by omega
    rw [hmin] at ow2 ⊢
    clear hmin
    have hpl : 0 < (pfx 7 128 n).length := by unfold pfx; split <;> simp
    have hpl6 := pfx_len 7 128 n
    obtain ⟨g, rfl, hg1, hg2⟩ := ow2.some (by rw [List.length_append]; omega)
    have HO2 : Hid (Owns w2 w1.heap.size (some ⟨g, 0, none⟩) (zs ++ pfx 7 128 n).length c2 (zs ++ pfx 7 128 n)) := ow2
    have HB2 : Hid (Below w.heap.size w w2) := HB1.out.trans (hb2.mono HB1.out.size)
    have HZ1 : Hid (w.heap.size ≤ w1.heap.size) := HB1.out.size
    clear ow2 hb2 HB1
    have hll : (zs ++ pfx 7 128 n).length = len + (pfx 7 128 n).length := by rw [List.length_append, hzl]
    have HR : Hid (∀ x ∈ zs ++ pfx 7 128 n, 0 ≤ x ∧ x ≤ 255) := HO2.out.2
    generalize hP : zs ++ pfx 7 128 n = P at *
    have HP : Hid (zs ++ pfx 7 128 n = P) := hP
    clear hP
    generalize hpn : P.length = pn at *
    have hpb : pn ≤ len + 6 := by omega
    have HPn : Hid (P.length = pn) := hpn
    clear hpn hll hpl hpl6
    go_wp2_with fail
    refine (implHuff_any s _ (by omega)).mono ?_
    rintro e w3 ⟨o, a3, c3, rfl, ow3, hf3, hb3⟩
    have hol := HN.out o hf3
    have HO3 : Hid (Owns w3 w1.heap.size (some ⟨g, 0, none⟩) pn c2 P) := HO2.out.below hb3
    have HH3 : Hid (Owns w3 w2.heap.size a3 n c3 o) := by rw [← hol]; exact ow3
    have HB3 : Hid (Below w.heap.size w w3) := HB2.out.trans (hb3.mono HB2.out.size)
    have HSrc : Hid (Src Tryz.prog 1 22 (.slice a3 n c3) n (o.map (Value.int .u8)) w3) := Src.ofSeg Tryz.underlying22 HH3.out.seg HH3.out.none
    have HBs : Hid (w1.heap.size ≤ w3.heap.size) := by have h1 := (HO2.out.lt g rfl); have h2 := hb3.size; show _ ≤ _; omega
    rw [hol]
    clear ow3 hb3 HO2 HB2
    have HF : Hid (HuffOf s.data.toList o) := hf3
    have HOL : Hid (o.length = n) := hol
    clear hf3 hol
    have hA : pn + n ≤ maxLen := by unfold maxLen; omega
    have hA2 : (pn + n) * 1 ≤ 140737488355328 := by omega
    go_wp2_with (at_builtin; refine wpList_append_any rfl _ _ 22 22 rfl w1.heap.size 5 i0 (.int .u8 0) 1 1 Tryz.underlying22 hi hz0 hz1 hz2 rfl (by decide) g pn c2 (P.map (Value.int .u8)) rfl HO3.out.1 (.slice a3 n c3) n (o.map (Value.int .u8)) rfl HSrc.out hA hA2 HBs.out ?_; intro v4 w4 hown hgrow; refine Hid.out ?_)
    refine hidden ?_
    obtain ⟨a4, c4, rfl⟩ := shape_of_owns hown
    have HB4 : Hid (Below w.heap.size w w4) := HB3.out.grown hgrow (by have := HB3.out.size; omega) (fun k hk => by injection hk with hk; have := HZ1.out; omega)
    have HO4 : Hid (w4.ownsRow w1.heap.size 5 1 (.slice a4 (pn + n) c4) (pn + n) (P.map (Value.int .u8) ++ o.map (Value.int .u8))) := hown
    clear hown hgrow HO3 HSrc HB3
    go_wp2_with fail
    go_ret
    refine ⟨pfx 7 128 n ++ o, a4, c4, by rw [StrOf, HE.out]; exact .inl ⟨hlt, o, HF.out, by rw [HOL.out]⟩, ?_, ⟨?_, ?_⟩, HB4.out⟩
    · rw [← List.append_assoc, HP.out, List.length_append, HPn.out, HOL.out]
      rfl
    · rw [← List.append_assoc, HP.out, List.length_append, HPn.out, HOL.out, List.map_append]
      exact own_lower HO4.out HZ1.out
    · intro x hx
      rw [← List.append_assoc, HP.out] at hx
      rcases List.mem_append.1 hx with hx | hx
      · exact HR.out x hx
      · exact HF.out.1 x hx
  · have hd : decide ((n : Int) < (s.size : Int)) = false := by simp; omega
    have hdp : ((n : Int) < (s.size : Int)) = False := by simp; omega
    go_wp2_with fail
    refine (implPfx_good sa len cap 7 0 (s.size : Int) zs _ (HS.out.below HB1.out) hl (by decide) (by decide) (by decide)).mono ?_
    rintro e w2 ⟨a2, c2, rfl, ow2, hb2⟩
    have hmin : (min (s.size : Int) 16777216).toNat = s.size := by omega
    rw [hmin] at ow2 ⊢
    clear hmin
    have hpl : 0 < (pfx 7 0 s.size).length := by unfold pfx; split <;> simp
    have hpl6 := pfx_len 7 0 s.size
    obtain ⟨g, rfl, hg1, hg2⟩ := ow2.some (by rw [List.length_append]; omega)
    have HO2 : Hid (Owns w2 w1.heap.size (some ⟨g, 0, none⟩) (zs ++ pfx 7 0 s.size).length c2 (zs ++ pfx 7 0 s.size)) := ow2
    have HB2 : Hid (Below w.heap.size w w2) := HB1.out.trans (hb2.mono HB1.out.size)
    have HZ1 : Hid (w.heap.size ≤ w1.heap.size) := HB1.out.size
    clear ow2 hb2 HB1
    have hll : (zs ++ pfx 7 0 s.size).length = len + (pfx 7 0 s.size).length := by rw [List.length_append, hzl]
    have HR : Hid (∀ x ∈ zs ++ pfx 7 0 s.size, 0 ≤ x ∧ x ≤ 255) := HO2.out.2
    have HBs : Hid (w1.heap.size ≤ w2.heap.size) := by have h1 := (HO2.out.lt g rfl); show _ ≤ _; omega
    generalize hP : zs ++ pfx 7 0 s.size = P at *
    have HP : Hid (zs ++ pfx 7 0 s.size = P) := hP
    clear hP
    generalize hpn : P.length = pn at *
    have hpb : pn ≤ len + 6 := by omega
    have HPn : Hid (P.length = pn) := hpn
    clear hpn hll hpl hpl6
    have HSrc : Hid (Src Tryz.prog 1 9 (.string s) s.size (byteCells s) w2) := Src.ofString w2 Tryz.underlying9 s
    have hA : pn + s.size ≤ maxLen := by unfold maxLen; omega
    have hA2 : (pn + s.size) * 1 ≤ 140737488355328 := by omega
    go_wp2_with (at_builtin; refine wpList_append_any rfl _ _ 22 9 rfl w1.heap.size 5 i0 (.int .u8 0) 1 1 Tryz.underlying22 hi hz0 hz1 hz2 rfl (by decide) g pn c2 (P.map (Value.int .u8)) rfl HO2.out.1 (.string s) s.size (byteCells s) rfl HSrc.out hA hA2 HBs.out ?_; intro v4 w4 hown hgrow; refine Hid.out ?_)
    refine hidden ?_
    obtain ⟨a4, c4, rfl⟩ := shape_of_owns hown
    have HB4 : Hid (Below w.heap.size w w4) := HB2.out.grown hgrow (by have := HB2.out.size; omega) (fun k hk => by injection hk with hk; have := HZ1.out; omega)
    have HO4 : Hid (w4.ownsRow w1.heap.size 5 1 (.slice a4 (pn + s.size) c4) (pn + s.size) (P.map (Value.int .u8) ++ byteCells s)) := hown
    clear hown hgrow HO2 HSrc HB2
    go_wp2_with fail
    go_ret
    refine ⟨pfx 7 0 s.size ++ asInts s.data.toList, a4, c4, by rw [StrOf, HE.out]; exact .inr ⟨hlt, rfl⟩, ?_, ⟨?_, ?_⟩, HB4.out⟩
    · rw [← List.append_assoc, HP.out, List.length_append, HPn.out, asInts_len, str_len]
      rfl
    · rw [← List.append_assoc, HP.out, List.length_append, HPn.out, asInts_len, str_len, List.map_append, ← byteCells_ints]
      exact own_lower HO4.out HZ1.out
    · intro x hx
      rw [← List.append_assoc, HP.out] at hx
      rcases List.mem_append.1 hx with hx | hx
      · exact HR.out x hx
      · exact asInts_range _ x hx

end Go.Proofs.YtckpacifimpkgacGreat

namespace Go.Proofs.YtckpacifimpkgacGreat
open Go.RowKit
set_option linter.unusedVariables false

abbrev Fld := ByteArray × ByteArray

/-- The cells of a row of fields. -/
def fieldCells (fs : List Fld) : List Value := fs.flatMap fun f => [.string f.1, .string f.2]

theorem fieldCells_len (fs : List Fld) : (fieldCells fs).length = 2 * fs.length := by
  induction fs with
  | nil => rfl
  | cons f fs ih => simp only [fieldCells, List.flatMap_cons, List.length_append, List.length_cons, List.length_nil] at ih ⊢; omega

theorem fieldCells_at (fs : List Fld) : ∀ i (hi : i < fs.length), (fieldCells fs)[2 * i]? = some (.string (fs[i]).1) ∧ (fieldCells fs)[2 * i + 1]? = some (.string (fs[i]).2) := by
  induction fs with
  | nil => intro i hi; simp at hi
  | cons f fs ih =>
    intro i hi
    have e : fieldCells (f :: fs) = .string f.1 :: .string f.2 :: fieldCells fs := rfl
    rw [e]
    cases i with
    | zero => simp
    | succ i =>
      have h2 : 2 * (i + 1) = 2 * i + 1 + 1 := by omega
      have := ih i (by simpa using hi)
      rw [h2]
      simpa using this

/-- The slice (a, n) holds the fields fs in the world w. -/
def Flds (w : World) (a : Option Addr) (n : Nat) (fs : List Fld) : Prop :=
  fs.length = n ∧ (∀ f ∈ fs, f.1.size ≤ maxLen ∧ f.2.size ≤ maxLen) ∧
  (n = 0 ∨ ∃ b off, a = some ⟨b, off, none⟩ ∧ b < w.heap.size ∧ ∀ i (hi : i < fs.length), w.cell? ⟨b, off + i * 2, none⟩ = some (.string (fs[i]).1) ∧ w.cell? ⟨b, off + i * 2 + 1, none⟩ = some (.string (fs[i]).2))

theorem Flds.below {w w' : World} {a : Option Addr} {n : Nat} {fs : List Fld} (h : Flds w a n fs) (hb : Below w.heap.size w w') : Flds w' a n fs := by
  obtain ⟨h1, h2, h3⟩ := h
  refine ⟨h1, h2, ?_⟩
  rcases h3 with h0 | ⟨b, off, ha, hlt, hc⟩
  · exact .inl h0
  · exact .inr ⟨b, off, ha, Nat.lt_of_lt_of_le hlt hb.size, fun i hi => ⟨(hb.cell (p := ⟨b, off + i * 2, none⟩) hlt).trans (hc i hi).1, (hb.cell (p := ⟨b, off + i * 2 + 1, none⟩) hlt).trans (hc i hi).2⟩⟩

/-- A row of fields from its block. -/
theorem Flds.ofRow {w : World} {g : Nat} {t : TypeId} {fs : List Fld} (h : w.heap[g]? = some (.cells (fieldCells fs).toArray t (0, 0))) (hs : ∀ f ∈ fs, f.1.size ≤ maxLen ∧ f.2.size ≤ maxLen) : Flds w (some ⟨g, 0, none⟩) fs.length fs := by
  refine ⟨rfl, hs, .inr ⟨g, 0, rfl, (Array.getElem?_eq_some_iff.1 h).1, fun i hi => ?_⟩⟩
  have := fieldCells_at fs i hi
  rw [Nat.mul_comm 2 i] at this
  rw [cell_of_row w g _ _ t (0, 0) h, cell_of_row w g _ _ t (0, 0) h, Nat.zero_add]
  simpa using this

/-- The cells at one index. -/
theorem Flds.at {w : World} {a : Option Addr} {n : Nat} {fs : List Fld} (h : Flds w a n fs) {k : Nat} (hk : k < n) : ∃ b off x y, a = some ⟨b, off, none⟩ ∧ b < w.heap.size ∧ fs[k]? = some (x, y) ∧ w.cell? ⟨b, off + k * 2, none⟩ = some (.string x) ∧ w.cell? ⟨b, off + k * 2 + 1, none⟩ = some (.string y) := by
  obtain ⟨h1, h2, h3⟩ := h
  rcases h3 with h0 | ⟨b, off, ha, hlt, hc⟩
  · omega
  · have hk' : k < fs.length := by omega
    exact ⟨b, off, (fs[k]).1, (fs[k]).2, ha, hlt, List.getElem?_eq_getElem hk', (hc k hk').1, (hc k hk').2⟩

/-- The first fields. -/
def firstL : List Fld := [
  (⟨#[58, 97, 117, 116, 104, 111, 114, 105, 116, 121]⟩, ⟨#[]⟩),
  (⟨#[58, 109, 101, 116, 104, 111, 100]⟩, ⟨#[71, 69, 84]⟩),
  (⟨#[58, 109, 101, 116, 104, 111, 100]⟩, ⟨#[80, 79, 83, 84]⟩),
  (⟨#[58, 112, 97, 116, 104]⟩, ⟨#[47]⟩),
  (⟨#[58, 112, 97, 116, 104]⟩, ⟨#[47, 105, 110, 100, 101, 120, 46, 104, 116, 109, 108]⟩),
  (⟨#[58, 115, 99, 104, 101, 109, 101]⟩, ⟨#[104, 116, 116, 112]⟩),
  (⟨#[58, 115, 99, 104, 101, 109, 101]⟩, ⟨#[104, 116, 116, 112, 115]⟩),
  (⟨#[58, 115, 116, 97, 116, 117, 115]⟩, ⟨#[50, 48, 48]⟩),
  (⟨#[58, 115, 116, 97, 116, 117, 115]⟩, ⟨#[50, 48, 52]⟩),
  (⟨#[58, 115, 116, 97, 116, 117, 115]⟩, ⟨#[50, 48, 54]⟩),
  (⟨#[58, 115, 116, 97, 116, 117, 115]⟩, ⟨#[51, 48, 52]⟩),
  (⟨#[58, 115, 116, 97, 116, 117, 115]⟩, ⟨#[52, 48, 48]⟩),
  (⟨#[58, 115, 116, 97, 116, 117, 115]⟩, ⟨#[52, 48, 52]⟩),
  (⟨#[58, 115, 116, 97, 116, 117, 115]⟩, ⟨#[53, 48, 48]⟩),
  (⟨#[97, 99, 99, 101, 112, 116, 45, 99, 104, 97, 114, 115, 101, 116]⟩, ⟨#[]⟩),
  (⟨#[97, 99, 99, 101, 112, 116, 45, 101, 110, 99, 111, 100, 105, 110, 103]⟩, ⟨#[103, 122, 105, 112, 44, 32, 100, 101, 102, 108, 97, 116, 101]⟩),
  (⟨#[97, 99, 99, 101, 112, 116, 45, 108, 97, 110, 103, 117, 97, 103, 101]⟩, ⟨#[]⟩),
  (⟨#[97, 99, 99, 101, 112, 116, 45, 114, 97, 110, 103, 101, 115]⟩, ⟨#[]⟩),
  (⟨#[97, 99, 99, 101, 112, 116]⟩, ⟨#[]⟩),
  (⟨#[97, 99, 99, 101, 115, 115, 45, 99, 111, 110, 116, 114, 111, 108, 45, 97, 108, 108, 111, 119, 45, 111, 114, 105, 103, 105, 110]⟩, ⟨#[]⟩),
  (⟨#[97, 103, 101]⟩, ⟨#[]⟩),
  (⟨#[97, 108, 108, 111, 119]⟩, ⟨#[]⟩),
  (⟨#[97, 117, 116, 104, 111, 114, 105, 122, 97, 116, 105, 111, 110]⟩, ⟨#[]⟩),
  (⟨#[99, 97, 99, 104, 101, 45, 99, 111, 110, 116, 114, 111, 108]⟩, ⟨#[]⟩),
  (⟨#[99, 111, 110, 116, 101, 110, 116, 45, 100, 105, 115, 112, 111, 115, 105, 116, 105, 111, 110]⟩, ⟨#[]⟩),
  (⟨#[99, 111, 110, 116, 101, 110, 116, 45, 101, 110, 99, 111, 100, 105, 110, 103]⟩, ⟨#[]⟩),
  (⟨#[99, 111, 110, 116, 101, 110, 116, 45, 108, 97, 110, 103, 117, 97, 103, 101]⟩, ⟨#[]⟩),
  (⟨#[99, 111, 110, 116, 101, 110, 116, 45, 108, 101, 110, 103, 116, 104]⟩, ⟨#[]⟩),
  (⟨#[99, 111, 110, 116, 101, 110, 116, 45, 108, 111, 99, 97, 116, 105, 111, 110]⟩, ⟨#[]⟩),
  (⟨#[99, 111, 110, 116, 101, 110, 116, 45, 114, 97, 110, 103, 101]⟩, ⟨#[]⟩),
  (⟨#[99, 111, 110, 116, 101, 110, 116, 45, 116, 121, 112, 101]⟩, ⟨#[]⟩),
  (⟨#[99, 111, 111, 107, 105, 101]⟩, ⟨#[]⟩),
  (⟨#[100, 97, 116, 101]⟩, ⟨#[]⟩),
  (⟨#[101, 116, 97, 103]⟩, ⟨#[]⟩),
  (⟨#[101, 120, 112, 101, 99, 116]⟩, ⟨#[]⟩),
  (⟨#[101, 120, 112, 105, 114, 101, 115]⟩, ⟨#[]⟩),
  (⟨#[102, 114, 111, 109]⟩, ⟨#[]⟩),
  (⟨#[104, 111, 115, 116]⟩, ⟨#[]⟩),
  (⟨#[105, 102, 45, 109, 97, 116, 99, 104]⟩, ⟨#[]⟩),
  (⟨#[105, 102, 45, 109, 111, 100, 105, 102, 105, 101, 100, 45, 115, 105, 110, 99, 101]⟩, ⟨#[]⟩),
  (⟨#[105, 102, 45, 110, 111, 110, 101, 45, 109, 97, 116, 99, 104]⟩, ⟨#[]⟩),
  (⟨#[105, 102, 45, 114, 97, 110, 103, 101]⟩, ⟨#[]⟩),
  (⟨#[105, 102, 45, 117, 110, 109, 111, 100, 105, 102, 105, 101, 100, 45, 115, 105, 110, 99, 101]⟩, ⟨#[]⟩),
  (⟨#[108, 97, 115, 116, 45, 109, 111, 100, 105, 102, 105, 101, 100]⟩, ⟨#[]⟩),
  (⟨#[108, 105, 110, 107]⟩, ⟨#[]⟩),
  (⟨#[108, 111, 99, 97, 116, 105, 111, 110]⟩, ⟨#[]⟩),
  (⟨#[109, 97, 120, 45, 102, 111, 114, 119, 97, 114, 100, 115]⟩, ⟨#[]⟩),
  (⟨#[112, 114, 111, 120, 121, 45, 97, 117, 116, 104, 101, 110, 116, 105, 99, 97, 116, 101]⟩, ⟨#[]⟩),
  (⟨#[112, 114, 111, 120, 121, 45, 97, 117, 116, 104, 111, 114, 105, 122, 97, 116, 105, 111, 110]⟩, ⟨#[]⟩),
  (⟨#[114, 97, 110, 103, 101]⟩, ⟨#[]⟩),
  (⟨#[114, 101, 102, 101, 114, 101, 114]⟩, ⟨#[]⟩),
  (⟨#[114, 101, 102, 114, 101, 115, 104]⟩, ⟨#[]⟩),
  (⟨#[114, 101, 116, 114, 121, 45, 97, 102, 116, 101, 114]⟩, ⟨#[]⟩),
  (⟨#[115, 101, 114, 118, 101, 114]⟩, ⟨#[]⟩),
  (⟨#[115, 101, 116, 45, 99, 111, 111, 107, 105, 101]⟩, ⟨#[]⟩),
  (⟨#[115, 116, 114, 105, 99, 116, 45, 116, 114, 97, 110, 115, 112, 111, 114, 116, 45, 115, 101, 99, 117, 114, 105, 116, 121]⟩, ⟨#[]⟩),
  (⟨#[116, 114, 97, 110, 115, 102, 101, 114, 45, 101, 110, 99, 111, 100, 105, 110, 103]⟩, ⟨#[]⟩),
  (⟨#[117, 115, 101, 114, 45, 97, 103, 101, 110, 116]⟩, ⟨#[]⟩),
  (⟨#[118, 97, 114, 121]⟩, ⟨#[]⟩),
  (⟨#[118, 105, 97]⟩, ⟨#[]⟩),
  (⟨#[119, 119, 119, 45, 97, 117, 116, 104, 101, 110, 116, 105, 99, 97, 116, 101]⟩, ⟨#[]⟩)]

theorem firstL_len : firstL.length = 61 := by decide +kernel
set_option maxRecDepth 100000 in
theorem firstL_size : ∀ f ∈ firstL, f.1.size ≤ maxLen ∧ f.2.size ≤ maxLen := by decide +kernel

end Go.Proofs.YtckpacifimpkgacGreat

namespace Go.Proofs.YtckpacifimpkgacGreat
open Go.RowKit
set_option linter.unusedVariables false

theorem made_two (v : Value) (n : Nat) : (madeCells #[v, v] n).toList = List.replicate n v := by
  apply List.ext_getElem?
  intro j
  by_cases hj : j < n
  · have : j % 2 = 0 ∨ j % 2 = 1 := by omega
    rcases this with h | h <;> simp [madeCells, hj, h]
  · simp [madeCells, hj]

abbrev fnil : Fld := (⟨#[]⟩, ⟨#[]⟩)

theorem fieldCells_nil (n : Nat) : fieldCells (List.replicate n fnil) = List.replicate (n * 2) (.string ⟨#[]⟩) := by
  induction n with
  | zero => rfl
  | succ n ih =>
    rw [show (n + 1) * 2 = n * 2 + 1 + 1 by omega, List.replicate_succ, List.replicate_succ, List.replicate_succ, ← ih]
    rfl

theorem fieldCells_set (fs : List Fld) (x y : ByteArray) : ∀ k, k < fs.length → ((fieldCells fs).set (k * 2) (.string x)).set (k * 2 + 1) (.string y) = fieldCells (fs.set k (x, y)) := by
  induction fs with
  | nil => intro k hk; simp at hk
  | cons f fs ih =>
    intro k hk
    have e : fieldCells (f :: fs) = .string f.1 :: .string f.2 :: fieldCells fs := rfl
    rw [e]
    cases k with
    | zero => rfl
    | succ k =>
      rw [show (k + 1) * 2 = k * 2 + 1 + 1 by omega]
      have := ih k (by simpa using hk)
      simp only [List.set_cons_succ]
      rw [this]
      rfl

/-- A row that is copied up to k. -/
def rowTo (xs : List Fld) (len k : Nat) : List Fld := xs.take k ++ List.replicate (len - k) fnil

theorem rowTo_step (xs : List Fld) (len k : Nat) (x y : ByteArray) (h : xs[k]? = some (x, y)) (hk : k < len) : (rowTo xs len k).set k (x, y) = rowTo xs len (k + 1) := by
  have hl : k < xs.length := (List.getElem?_eq_some_iff.1 h).1
  have ht : (xs.take k).length = k := by simp; omega
  rw [rowTo, rowTo, List.set_append_right k _ (by omega), ht, Nat.sub_self, List.take_add_one, h, show len - k = (len - (k + 1)) + 1 by omega, List.replicate_succ]
  simp

theorem rowTo_len (xs : List Fld) (len k : Nat) (h : xs.length = len) (hk : k ≤ len) : (rowTo xs len k).length = len := by
  simp [rowTo]; omega

theorem info_field : (Tryz.prog.info? 43).map (fun i => (i.zero, i.size, i.bytes)) = some (some (.agg #[.string ⟨#[]⟩, .string ⟨#[]⟩]), 2, 32) := by kernel_rfl

theorem Flds.other {w : World} {g n : Nat} {fs : List Fld} (h : Flds w (some ⟨g, 0, none⟩) n fs) {p : Addr} (hp : g ≠ p.block) (v : Value) : Flds (w.setCell p v) (some ⟨g, 0, none⟩) n fs := by
  obtain ⟨h1, h2, h3⟩ := h
  refine ⟨h1, h2, ?_⟩
  rcases h3 with h0 | ⟨b, off, ha, hlt, hc⟩
  · exact .inl h0
  · have hb : b = g := by simp at ha; omega
    subst hb
    have hs : (w.setCell p v).heap[b]? = w.heap[b]? := Below.heap_setCell w p v b hp
    exact .inr ⟨b, off, ha, Nat.lt_of_lt_of_le hlt ((Below.refl 0 w).setCell (Nat.zero_le _) v).size, fun i hi => ⟨(World.cell?_of_block (w := w) (a := ⟨b, _, none⟩) hs).trans (hc i hi).1, (World.cell?_of_block (w := w) (a := ⟨b, _, none⟩) hs).trans (hc i hi).2⟩⟩

end Go.Proofs.YtckpacifimpkgacGreat

namespace Go.Proofs.YtckpacifimpkgacGreat
open Go.RowKit
set_option linter.unusedVariables false

/-- The bytes of fields. -/
def fldBytes (fs : List Fld) : Nat := (fs.map fun f => f.1.size + f.2.size).sum

theorem fldBytes_step (fs : List Fld) (k : Nat) (x y : ByteArray) (h : fs[k]? = some (x, y)) : fldBytes (fs.take (k + 1)) = fldBytes (fs.take k) + (x.size + y.size) := by
  rw [List.take_add_one, h]
  simp [fldBytes]

theorem fldBytes_take (xs : List Fld) (k : Nat) : fldBytes (xs.take k) ≤ fldBytes xs := by
  have : fldBytes (xs.take k) + fldBytes (xs.drop k) = fldBytes xs := by
    rw [fldBytes, fldBytes, fldBytes, ← List.sum_append, ← List.map_append, List.take_append_drop]
  omega

/-- What fields count for: their bytes, and 32 each. -/
def szL (xs : List Fld) : Nat := 32 * xs.length + fldBytes xs

theorem szL_nil : szL [] = 0 := rfl
theorem szL_cons (f : Fld) (xs : List Fld) : szL (f :: xs) = 32 + f.1.size + f.2.size + szL xs := by
  simp [szL, fldBytes]
  omega

theorem szL_take_step (xs : List Fld) (k : Nat) (hk : k < xs.length) : szL (xs.take (k + 1)) = szL (xs.take k) + (32 + (xs[k]).1.size + (xs[k]).2.size) := by
  have h := fldBytes_step xs k (xs[k]).1 (xs[k]).2 (by rw [List.getElem?_eq_getElem hk])
  simp only [szL, List.length_take]
  rw [h]
  omega

theorem szL_take_mono (xs : List Fld) (j k : Nat) (hjk : j ≤ k) : szL (xs.take j) ≤ szL (xs.take k) := by
  induction k with
  | zero => obtain rfl : j = 0 := by omega
            exact Nat.le_refl _
  | succ k ih =>
    by_cases h : j = k + 1
    · rw [h]; exact Nat.le_refl _
    · have h1 := ih (by omega)
      by_cases hk : k < xs.length
      · have := szL_take_step xs k hk
        omega
      · rw [List.take_of_length_le (by omega : xs.length ≤ k)] at h1
        rw [List.take_of_length_le (by omega : xs.length ≤ k + 1)]
        exact h1

theorem szL_take_le (xs : List Fld) (k : Nat) : szL (xs.take k) ≤ szL xs := by
  by_cases h : k ≤ xs.length
  · have := szL_take_mono xs k xs.length h
    rwa [List.take_length] at this
  · rw [List.take_of_length_le (by omega)]
    exact Nat.le_refl _

/-- Just k of the fields fit into m. -/
def FitN (m : Nat) (xs : List Fld) (k : Nat) : Prop := k ≤ xs.length ∧ szL (xs.take k) ≤ m ∧ (k = xs.length ∨ m < szL (xs.take (k + 1)))

theorem FitN.one {m : Nat} {xs : List Fld} {j k : Nat} (h : FitN m xs j) (g : FitN m xs k) : j = k := by
  obtain ⟨h1, h2, h3⟩ := h
  obtain ⟨g1, g2, g3⟩ := g
  rcases Nat.lt_trichotomy j k with hl | he | hg
  · exfalso
    rcases h3 with h3 | h3
    · omega
    · have := szL_take_mono xs (j + 1) k (by omega)
      omega
  · exact he
  · exfalso
    rcases g3 with g3 | g3
    · omega
    · have := szL_take_mono xs (k + 1) j (by omega)
      omega

/-- A table that is right. -/
def okT (m : Int) (xs : List Fld) : Bool := decide (0 ≤ m ∧ m ≤ 4096 ∧ (szL xs : Int) ≤ m)

/-- What FirstField answers. -/
def firstAns (i : Int) : Fld × Bool := if 1 ≤ i ∧ i ≤ 61 then (firstL.getD (i - 1).toNat (⟨#[]⟩, ⟨#[]⟩), true) else ((⟨#[]⟩, ⟨#[]⟩), false)

end Go.Proofs.YtckpacifimpkgacGreat

namespace Go.Proofs.YtckpacifimpkgacGreat
open Go.RowKit
set_option linter.unusedVariables false

/-- A slice value that owns these fields, in a block from base on. -/
def OwnF (w : World) (base : Nat) (v : Value) (n : Nat) (xs : List Fld) : Prop := w.ownsRow base 43 2 v n (fieldCells xs) ∧ ∀ f ∈ xs, f.1.size ≤ maxLen ∧ f.2.size ≤ maxLen

theorem OwnF.len {w : World} {base n : Nat} {v : Value} {xs : List Fld} (h : OwnF w base v n xs) : xs.length = n := by
  have := h.1.1
  rw [fieldCells_len] at this
  omega

theorem OwnF.shape {w : World} {base n : Nat} {v : Value} {xs : List Fld} (h : OwnF w base v n xs) : ∃ a cap, v = .slice a n cap := by
  rcases h.1.2 with ⟨rfl, rfl⟩ | ⟨g, cap, cur, rfl, _⟩
  · exact ⟨_, _, rfl⟩
  · exact ⟨_, _, rfl⟩

theorem OwnF.flds {w : World} {base n cap : Nat} {a : Option Addr} {xs : List Fld} (h : OwnF w base (.slice a n cap) n xs) : Flds w a n xs := by
  have hl := h.len
  refine ⟨hl, h.2, ?_⟩
  rcases h.1.2 with ⟨_, hn⟩ | ⟨g, cap', cur, he, hb, hg, hn, hm, hc, ht⟩
  · exact .inl hn
  · injection he with e1 e2 e3
    subst e1
    refine .inr ⟨g, 0, rfl, (Array.getElem?_eq_some_iff.1 hg).1, fun i hi => ?_⟩
    have hi' : i < n := by omega
    have hget : ∀ j, j < n * 2 → w.cell? ⟨g, j, none⟩ = (fieldCells xs)[j]? := by
      intro j hj
      rw [cell_of_row w g j cur _ (0, 0) hg, ← ht, List.getElem?_take, if_pos hj, Array.getElem?_toList]
    have := fieldCells_at xs i hi
    rw [Nat.mul_comm 2 i] at this
    rw [Nat.zero_add, hget (i * 2) (by omega), hget (i * 2 + 1) (by omega)]
    exact this

theorem Flds.cells {w : World} {a : Option Addr} {n : Nat} {xs : List Fld} (h : Flds w a n xs) : ∀ ad, a = some ad → ∀ j u, (fieldCells xs)[j]? = some u → w.cell? (ad.add j) = some u := by
  intro ad ha j u hj
  have hjl : j < 2 * xs.length := by
    rw [← fieldCells_len]
    exact (List.getElem?_eq_some_iff.1 hj).1
  rcases h.2.2 with h0 | ⟨b, off, e, hb, hc⟩
  · have := h.1
    omega
  · rw [ha] at e
    injection e with e
    subst e
    have hadd : (⟨b, off, none⟩ : Addr).add j = ⟨b, off + j, none⟩ := by unfold Addr.add; split <;> simp_all
    rw [hadd]
    have hi : j / 2 < xs.length := by omega
    have h1 := hc (j / 2) hi
    have h2 := fieldCells_at xs (j / 2) hi
    rcases Nat.mod_two_eq_zero_or_one j with hm | hm
    · have e1 : off + j = off + j / 2 * 2 := by omega
      have e2 : j = 2 * (j / 2) := by omega
      rw [e1, h1.1, ← h2.1, ← e2, hj]
    · have e1 : off + j = off + j / 2 * 2 + 1 := by omega
      have e2 : j = 2 * (j / 2) + 1 := by omega
      rw [e1, h1.2, ← h2.2, ← e2, hj]

theorem Flds.none_nil {w : World} {a : Option Addr} {n : Nat} {xs : List Fld} (h : Flds w a n xs) (ha : a = none) : n = 0 := by
  rcases h.2.2 with h0 | ⟨b, off, e, _⟩
  · exact h0
  · rw [ha] at e
    cases e

theorem fieldCells_one (xs : List Fld) : ∀ u ∈ fieldCells xs, u.oneCell' = true := by
  intro u hu
  simp only [fieldCells, List.mem_flatMap] at hu
  obtain ⟨f, _, hf⟩ := hu
  simp at hf
  rcases hf with rfl | rfl <;> rfl

theorem fieldCells_append (xs ys : List Fld) : fieldCells (xs ++ ys) = fieldCells xs ++ fieldCells ys := by simp [fieldCells]

theorem fieldCells_take (xs : List Fld) : ∀ k, fieldCells (xs.take k) = (fieldCells xs).take (k * 2) := by
  induction xs with
  | nil => intro k; simp [fieldCells]
  | cons f xs ih =>
    intro k
    cases k with
    | zero => simp [fieldCells]
    | succ k =>
      have e : fieldCells (f :: xs) = .string f.1 :: .string f.2 :: fieldCells xs := rfl
      rw [List.take_succ_cons, e, show (k + 1) * 2 = k * 2 + 1 + 1 by omega, List.take_succ_cons, List.take_succ_cons, ← ih k]
      rfl

/-- A row of one's own that is cut behind its first k fields. -/
theorem OwnF.take {w : World} {base n cap : Nat} {a : Option Addr} {xs : List Fld} (h : OwnF w base (.slice a n cap) n xs) (k : Nat) (hk : k ≤ n) (ha : a ≠ none) : OwnF w base (.slice a k cap) k (xs.take k) := by
  have hl := h.len
  refine ⟨⟨?_, ?_⟩, fun f hf => h.2 f (List.mem_of_mem_take hf)⟩
  · rw [fieldCells_len, List.length_take]
    omega
  · rcases h.1.2 with ⟨he, _⟩ | ⟨g, cap', cur, he, hb, hg, hn, hm, hc, ht⟩
    · injection he with e1 _ _
      exact absurd e1 ha
    · injection he with e1 e2 e3
      subst e1 e3
      refine .inr ⟨g, cap, cur, rfl, hb, hg, by omega, hm, hc, ?_⟩
      rw [fieldCells_take, ← ht, List.take_take]
      congr 1
      omega

end Go.Proofs.YtckpacifimpkgacGreat
