/- Requests and answers come back of their fields; what is read as a request is right: no walk; no condition. -/
import Derived.Test.YthojijhafhnclaeDoorReqOfI
import Derived.Test.YthojijhafhnclaeDoorRespNs
import Derived.Test.YthojijhafhnclaeDoorReqFldN
namespace Go.Proofs.YthojijhafhnclaeDoor
open Go.RowKit
set_option linter.unusedVariables false

/-- The names alone. -/
def namesF (xs : List Fld) : List (List UInt8) := xs.map fun f => f.1.toList

def formN (ns : List (List UInt8)) : Bool := ns.all (fun x => !wrongN x) && (List.range ns.length).all (fun i => colB (ns.getD i []) || !colB (ns.getD (i + 1) [])) && ns.count bM == 1 && ns.count bS == 1 && ns.count bP == 1 && decide (ns.count bA ≤ 1)

theorem cntF_names (nm : List UInt8) (xs : List Fld) : cntF nm xs = (namesF xs).count nm := by
  rw [cntF, namesF, List.count, List.countP_map]
  rfl

theorem formB_names {xs : List Fld} (h : formN (namesF xs) = true) : formB xs = true := by
  simp only [formN, Bool.and_eq_true, decide_eq_true_eq, beq_iff_eq] at h
  obtain ⟨⟨⟨⟨⟨h1, h2⟩, h3⟩, h4⟩, h5⟩, h6⟩ := h
  rw [form_iff]
  refine ⟨fun k x y hk => ?_, ?_, by rw [cntF_names]; exact h3, by rw [cntF_names]; exact h4, by rw [cntF_names]; exact h5, by rw [cntF_names]; exact h6⟩
  · have hm : x.toList ∈ namesF xs := List.mem_map.2 ⟨(x, y), List.mem_of_getElem? hk, rfl⟩
    have := List.all_eq_true.1 h1 _ hm
    simpa using this
  · rintro ⟨i, x, y, x', y', e1, e2, c1, c2⟩
    have l1 := (List.getElem?_eq_some_iff.1 e1).1
    have hl : (namesF xs).length = xs.length := by rw [namesF, List.length_map]
    have hi := List.all_eq_true.1 h2 i (List.mem_range.2 (by rw [hl]; exact l1))
    have g1 : (namesF xs).getD i [] = x.toList := by rw [List.getD, namesF, List.getElem?_map, e1]; rfl
    have g2 : (namesF xs).getD (i + 1) [] = x'.toList := by rw [List.getD, namesF, List.getElem?_map, e2]; rfl
    rw [g1, g2, c1, c2] at hi
    cases hi

theorem valF_hit {nm : List UInt8} {f : Fld} {r : List Fld} (h : f.1.toList = nm) : valF nm (f :: r) = f.2 := by rw [valF, if_pos (beq_iff_eq.2 h)]
theorem valF_miss {nm : List UInt8} {f : Fld} {r : List Fld} (h : f.1.toList ≠ nm) : valF nm (f :: r) = valF nm r := by rw [valF, if_neg (by simpa using h)]

theorem nM : (⟨#[58, 109, 101, 116, 104, 111, 100]⟩ : ByteArray).toList = bM := by rw [bytes_list]; rfl
theorem nS : (⟨#[58, 115, 99, 104, 101, 109, 101]⟩ : ByteArray).toList = bS := by rw [bytes_list]; rfl
theorem nP : (⟨#[58, 112, 97, 116, 104]⟩ : ByteArray).toList = bP := by rw [bytes_list]; rfl

/-- A field that is passed over. -/
def otherF : Fld := (⟨#[120, 45, 111, 116, 104, 101, 114]⟩, ⟨#[49]⟩)
theorem nO : otherF.1.toList = [120, 45, 111, 116, 104, 101, 114] := by rw [bytes_list]; rfl

theorem up_path {s : ByteArray} : ((⟨#[47, 117, 112, 47]⟩ : ByteArray) ++ s).extract 4 ((⟨#[47, 117, 112, 47]⟩ : ByteArray) ++ s).size = s := by
  refine bytes_eq ?_
  rw [← bytes_list, Lib.extract_toList]
  have hz : ((⟨#[47, 117, 112, 47]⟩ : ByteArray) ++ s).size = 4 + s.size := by rw [ByteArray.size_append]; rfl
  have hd : ((⟨#[47, 117, 112, 47]⟩ : ByteArray) ++ s).data.toList = [47, 117, 112, 47] ++ s.data.toList := by simp
  rw [hz, hd]
  simp [List.take_of_length_le, Array.length_toList]

theorem up_path0 {s : ByteArray} : (((⟨#[47, 117, 112, 47]⟩ : ByteArray) ++ s).extract 0 4).toList = bU := by
  rw [Lib.extract_toList]
  have hd : ((⟨#[47, 117, 112, 47]⟩ : ByteArray) ++ s).data.toList = [47, 117, 112, 47] ++ s.data.toList := by simp
  rw [hd]
  rfl

theorem up_pathB {s : ByteArray} (h : idB s.data.toList = true) : pathB (⟨#[47, 117, 112, 47]⟩ ++ s) = true := by
  have hz : ((⟨#[47, 117, 112, 47]⟩ : ByteArray) ++ s).size = 4 + s.size := by rw [ByteArray.size_append]; rfl
  have h2 : 1 ≤ s.data.toList.length := by
    simp only [idB, Bool.and_eq_true, decide_eq_true_eq] at h
    exact h.2.1
  rw [Array.length_toList] at h2
  have h3 : 1 ≤ s.size := h2
  rw [pathB, up_path, up_path0, h, Bool.and_true, Bool.and_eq_true, decide_eq_true_eq, beq_iff_eq]
  exact ⟨by omega, rfl⟩

set_option maxRecDepth 100000 in
theorem form_fields (k : Nat) (h1 : 1 ≤ k) (h6 : k ≤ 6) (s : ByteArray) (n : Int) (tl : List Fld) (ht : tl = [] ∨ tl = [otherF]) : formB (threeF (k : Int) s ++ numF (k : Int) n ++ tl) = true := by
  refine formB_names ?_
  have hk : k = 1 ∨ k = 2 ∨ k = 3 ∨ k = 4 ∨ k = 5 ∨ k = 6 := by omega
  rcases hk with rfl | rfl | rfl | rfl | rfl | rfl <;> rcases ht with rfl | rfl <;> simp [namesF, threeF, numF, nameT, bytes_list] <;> decide

theorem cnt_num (k : Nat) (hk : k = 1 ∨ k = 3 ∨ k = 4) (s : ByteArray) (n : Int) (tl : List Fld) (ht : tl = [] ∨ tl = [otherF]) : cntF (nameT (k : Int)).toList (threeF (k : Int) s ++ numF (k : Int) n ++ tl) = 1 := by
  rw [cntF_names]
  rcases hk with rfl | rfl | rfl <;> rcases ht with rfl | rfl <;> simp [namesF, threeF, numF, nameT, bytes_list] <;> decide

theorem val_meth (k : Nat) (s : ByteArray) (n : Int) (tl : List Fld) : valF bM (threeF (k : Int) s ++ numF (k : Int) n ++ tl) = methT (k : Int) := valF_hit nM

theorem val_path (k : Nat) (s : ByteArray) (n : Int) (tl : List Fld) : valF bP (threeF (k : Int) s ++ numF (k : Int) n ++ tl) = ⟨#[47, 117, 112, 47]⟩ ++ s :=
  (valF_miss (by rw [nM]; decide)).trans ((valF_miss (by rw [nS]; decide)).trans (valF_hit nP))

theorem val_num (k : Nat) (hk : k = 1 ∨ k = 3 ∨ k = 4) (s : ByteArray) (n : Int) (tl : List Fld) : valF (nameT (k : Int)).toList (threeF (k : Int) s ++ numF (k : Int) n ++ tl) = ⟨(Lib.decDigits n.toNat).toArray⟩ := by
  have hnt : ¬ (nameT (k : Int)).toList = [] := by rcases hk with rfl | rfl | rfl <;> simp [nameT, bytes_list]
  have e : threeF (k : Int) s ++ numF (k : Int) n ++ tl = threeF (k : Int) s ++ (nameT (k : Int), ⟨(Lib.decDigits n.toNat).toArray⟩) :: tl := by rw [numF, if_neg hnt]; simp
  have hM : bM ≠ (nameT (k : Int)).toList := by rcases hk with rfl | rfl | rfl <;> simp [nameT, bytes_list, bM]
  have hS : bS ≠ (nameT (k : Int)).toList := by rcases hk with rfl | rfl | rfl <;> simp [nameT, bytes_list, bS]
  have hP : bP ≠ (nameT (k : Int)).toList := by rcases hk with rfl | rfl | rfl <;> simp [nameT, bytes_list, bP]
  rw [e]
  exact (valF_miss (by rw [nM]; exact hM)).trans ((valF_miss (by rw [nS]; exact hS)).trans ((valF_miss (by rw [nP]; exact hP)).trans (valF_hit rfl)))

/-- A request that is right comes back of its fields, also with another one behind them. -/
theorem req_back {op n : Int} {s : ByteArray} (h : reqB op s.data.toList n = true) (tl : List Fld) (ht : tl = [] ∨ tl = [otherF]) : reqOfR (fieldsR op s n ++ tl) = ((op, s, n), 0) := by
  have hop := (reqB_id h).2.1
  obtain ⟨k, rfl⟩ := Int.eq_ofNat_of_zero_le (show 0 ≤ op by omega)
  have hk1 : 1 ≤ k := by omega
  have hk6 : k ≤ 6 := by omega
  have e : fieldsR (k : Int) s n = threeF (k : Int) s ++ numF (k : Int) n := by rw [fieldsR, if_pos h]
  rw [reqB_tab k hk1 hk6, Bool.and_eq_true, Bool.and_eq_true, decide_eq_true_eq, decide_eq_true_eq] at h
  obtain ⟨hid, hn0, hn1⟩ := h
  have hf := form_fields k hk1 hk6 s n tl ht
  have ho : opTo (valF bM (threeF (k : Int) s ++ numF (k : Int) n ++ tl)).toList 6 = (k : Int) := by rw [val_meth]; exact opTo_hit _ k hk1 hk6 (beq_iff_eq.2 rfl)
  have hp : pathB (valF bP (threeF (k : Int) s ++ numF (k : Int) n ++ tl)) = true := by rw [val_path]; exact up_pathB hid
  rw [e]
  by_cases hkn : k = 1 ∨ k = 3 ∨ k = 4
  · have hm : numForR k (threeF (k : Int) s ++ numF (k : Int) n ++ tl) = (n, true) := by
      rw [numForR, if_pos (cnt_num k hkn s n tl ht), val_num k hkn]
      exact upR_same (mostT_lt k) hn0 hn1 rfl
    rw [reqOfR_num hf ho hkn hp, hm, if_pos rfl, val_path, up_path]
  · have hm0 : mostT k = 0 := by
      unfold mostT
      rw [if_neg (by omega), if_neg (by omega)]
    have hn : n = 0 := by omega
    rw [reqOfR_plain hf ho hk1 hkn hp, val_path, up_path, hn]

/-- What is read as a request is right; beside a fault it is the zero one. -/
theorem req_read (xs : List Fld) : ((reqOfR xs).2 = 0 ∧ reqB (reqOfR xs).1.1 (reqOfR xs).1.2.1.data.toList (reqOfR xs).1.2.2 = true) ∨ ((reqOfR xs).2 ≠ 0 ∧ (reqOfR xs).1 = zeroR) := by
  cases hf : formB xs
  · rw [reqOfR_form hf]
    exact .inr ⟨by decide, rfl⟩
  obtain ⟨k, hk⟩ : ∃ k : Nat, opTo (valF bM xs).toList 6 = (k : Int) := Int.eq_ofNat_of_zero_le (opTo_le _ 6).1
  have hk6 : k ≤ 6 := by have := (opTo_le (valF bM xs).toList 6).2; omega
  by_cases hk0 : k = 0
  · subst hk0
    rw [reqOfR_meth hf hk]
    exact .inr ⟨by decide, rfl⟩
  cases hp : pathB (valF bP xs)
  · rw [reqOfR_path hf (by rw [hk]; omega) hp]
    exact .inr ⟨by decide, rfl⟩
  have hid : idB ((valF bP xs).extract 4 (valF bP xs).size).data.toList = true := by
    simp only [pathB, Bool.and_eq_true] at hp
    exact hp.2
  by_cases hkn : k = 1 ∨ k = 3 ∨ k = 4
  · rw [reqOfR_num hf hk hkn hp]
    cases hm : (numForR k xs).2
    · rw [if_neg (by simp)]
      exact .inr ⟨by decide, rfl⟩
    · rw [if_pos rfl]
      refine .inl ⟨rfl, ?_⟩
      dsimp only
      rw [reqB_tab k (by omega) hk6, hid, Bool.true_and, Bool.and_eq_true, decide_eq_true_eq, decide_eq_true_eq]
      by_cases hc : cntF (nameT (k : Int)).toList xs = 1
      · have e : numForR k xs = upR (valF (nameT (k : Int)).toList xs).data.toList (mostT k) := by rw [numForR, if_pos hc]
        rw [e] at hm ⊢
        exact ⟨upR_nonneg _ _, upR_le hm⟩
      · have e : numForR k xs = (0, false) := by rw [numForR, if_neg hc]
        rw [e] at hm
        cases hm
  · rw [reqOfR_plain hf hk (by omega) hkn hp]
    refine .inl ⟨rfl, ?_⟩
    dsimp only
    have hm0 : mostT k = 0 := by
      unfold mostT
      rw [if_neg (by omega), if_neg (by omega)]
    rw [reqB_tab k (by omega) hk6, hid, hm0]
    rfl

/-- An answer that is right comes back of its fields. -/
theorem resp_back {st off : Int} (h : respB st off = true) : respOfR (respF st off) = ((st, off), true) := by
  have hb := respB_st h
  have e1 : ∀ n : Int, 0 ≤ n → n ≤ 1000000000 → upR (numT n).data.toList 1000000000 = (n, true) := fun n h0 h1 => (text_iff (by omega) h0 h1).1 rfl
  by_cases ho : off < 0
  · obtain rfl : off = -1 := by omega
    have hs : stOf (respF st (-1)) = st := by rw [respF_one h, stOf, e1 st (by omega) (by omega)]
    have hof : offOf (respF st (-1)) = -1 := by rw [respF_one h]; rfl
    rw [respOfR_yes (by rw [respF_one h]; simp) (by rw [hs, hof]), hs, hof]
  · have hs : stOf (respF st off) = st := by rw [respF_two h (by omega), stOf, e1 st (by omega) (by omega)]
    have hof : offOf (respF st off) = off := by rw [respF_two h (by omega), offOf, e1 off (by omega) (by omega)]
    rw [respOfR_yes (by rw [respF_two h (by omega)]; simp) (by rw [hs, hof]), hs, hof]

end Go.Proofs.YthojijhafhnclaeDoor
