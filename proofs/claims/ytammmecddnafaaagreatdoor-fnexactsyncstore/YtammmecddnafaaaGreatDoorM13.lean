/- What the program's sameUp answers, and the library's EqualFunc with it. Disks that are right, and what is read off them; no program in it. What the program's sectorLong and hasSector answer. What the library's IndexFunc and ContainsFunc answer of texts that may be too long. What the program's DiskOk answers. What is answered for a number of bytes that may not be there. No program in it. What both programs' GetBig answer: the number of the bytes there and true, or 0 and false; nothing is written. For lists of at most 2^40 bytes. The record that the program tells of bytes, what is not there as noughts; no program in it. -/
import Derived.Test.YtammmecddnafaaaGreatDoorM07
import Derived.Test.YtammmecddnafaaaGreatDoorM12
import Derived.Test.YtammmecddnafaaaGreatDoorM03
import Derived.Shelf.Abstract
import Derived.Deep.CutBlock
import Derived.Test.YtammmecddnafaaaGreatDoorM01
import Derived.Test.YtammmecddnafaaaGreatDoorM04
namespace Go.Proofs.YtammmecddnafaaaGreatDoor
open Go.RowKit
set_option linter.unusedVariables false

/-- The library's Equal of bytes. -/
theorem bytesEq_any (a : Option Addr) (n c : Nat) (xs : List Int) (b : Option Addr) (m d : Nat) (ys : List Int) (w : World) (hx : Seg w a n xs) (hy : Seg w b m ys) :
    Calls Tryz.prog 104 #[.slice a n c, .slice b m d] w fun e w' => e = .returned (.bool (decide (xs = ys))) ∧ w' = w := by
  have h1 : (convert 39 9 (.slice a n c)).run Tryz.prog w = .ok (.string (txU xs)) w := conv_bytes hx
  have h2 : (convert 39 9 (.slice b m d)).run Tryz.prog w = .ok (.string (txU ys)) w := conv_bytes hy
  have he := ids_eq (txU xs) (txU ys)
  have HD : Hid (decide (txU xs = txU ys) = decide (xs = ys)) := by
    show _ = _
    rw [Bool.eq_iff_iff, decide_eq_true_eq, decide_eq_true_eq]
    exact txU_same hx.2.1 hy.2.1
  clear hx hy
  generalize txU xs = p at *
  generalize txU ys = q at *
  go_enter Tryz.func104, Tryz.ntmps104
  go_wp2_with fail
  go_ret
  exact ⟨by rw [← HD.out]; rfl, rfl⟩

/-- Whether two uploads are the same. -/
def sameB (u v : U) : Bool := decide (u.id = v.id) && decide (u.want = v.want) && decide (u.done = v.done) && decide (u.zs = v.zs)

theorem sameB_iff {u v : U} : sameB u v = true ↔ u = v := by
  simp only [sameB, Bool.and_eq_true, decide_eq_true_eq]
  constructor
  · rintro ⟨⟨⟨h1, h2⟩, h3⟩, h4⟩
    cases u
    cases v
    simp_all
  · rintro rfl
    exact ⟨⟨⟨rfl, rfl⟩, rfl⟩, rfl⟩

set_option maxRecDepth 10000 in
set_option maxHeartbeats 800000 in
theorem implSame_any (x y : UE) (w : World) (hx : Seg w x.a x.n x.u.zs) (hy : Seg w y.a y.n y.u.zs) :
    Calls Tryz.prog 83 #[.agg #[.string x.u.id, .int .i64 x.u.want, .slice x.a x.n x.c, .bool x.u.done], .agg #[.string y.u.id, .int .i64 y.u.want, .slice y.a y.n y.c, .bool y.u.done]] w fun e w' => e = .returned (.bool (sameB x.u y.u)) ∧ Below w.heap.size w w' := by
  have HB : Hid (Below w.heap.size w ((w.alloc (.cells #[.string x.u.id, .int .i64 x.u.want, .slice x.a x.n x.c, .bool x.u.done] 69)).alloc (.cells #[.string y.u.id, .int .i64 y.u.want, .slice y.a y.n y.c, .bool y.u.done] 69))) := ((Below.refl _ _).alloc (Nat.le_refl _) _).alloc (by simp) _
  have HC : Hid (Calls Tryz.prog 104 #[.slice x.a x.n x.c, .slice y.a y.n y.c] ((w.alloc (.cells #[.string x.u.id, .int .i64 x.u.want, .slice x.a x.n x.c, .bool x.u.done] 69)).alloc (.cells #[.string y.u.id, .int .i64 y.u.want, .slice y.a y.n y.c, .bool y.u.done] 69)) fun e w' => e = .returned (.bool (decide (x.u.zs = y.u.zs))) ∧ w' = ((w.alloc (.cells #[.string x.u.id, .int .i64 x.u.want, .slice x.a x.n x.c, .bool x.u.done] 69)).alloc (.cells #[.string y.u.id, .int .i64 y.u.want, .slice y.a y.n y.c, .bool y.u.done] 69))) := bytesEq_any x.a x.n x.c x.u.zs y.a y.n y.c y.u.zs _ (hx.below HB.out) (hy.below HB.out)
  have he := ids_eq x.u.id y.u.id
  clear hx hy
  by_cases h0 : x.u.id = y.u.id
  case neg =>
    have HF : Hid (sameB x.u y.u = false) := by show _ = _; rw [sameB, decide_eq_false h0]; simp
    rw [decide_eq_false h0] at he
    clear h0
    go_enter Tryz.func83, Tryz.ntmps83
    go_wp2_with fail
    go_ret
    exact ⟨by rw [HF.out]; rfl, HB.out⟩
  rw [decide_eq_true h0] at he
  by_cases h1 : x.u.want = y.u.want
  case neg =>
    have HF : Hid (sameB x.u y.u = false) := by show _ = _; rw [sameB, decide_eq_false h1]; simp
    have e1 : (x.u.want == y.u.want) = false := by simpa using h1
    clear h0 h1
    go_enter Tryz.func83, Tryz.ntmps83
    go_wp2_with fail
    go_ret
    exact ⟨by rw [HF.out]; rfl, HB.out⟩
  have e1 : (x.u.want == y.u.want) = true := by simpa using h1
  by_cases h2 : x.u.done = y.u.done
  case neg =>
    have HF : Hid (sameB x.u y.u = false) := by show _ = _; rw [sameB, decide_eq_false h2]; simp
    have e2 : (x.u.done == y.u.done) = false := by simpa using h2
    clear h0 h1 h2
    go_enter Tryz.func83, Tryz.ntmps83
    go_wp2_with fail
    go_ret
    exact ⟨by rw [HF.out]; rfl, HB.out⟩
  have e2 : (x.u.done == y.u.done) = true := by simpa using h2
  have HF : Hid (sameB x.u y.u = decide (x.u.zs = y.u.zs)) := by show _ = _; rw [sameB, decide_eq_true h0, decide_eq_true h1, decide_eq_true h2]; simp
  clear h0 h1 h2
  go_enter Tryz.func83, Tryz.ntmps83
  go_wp2_with fail
  refine HC.out.mono ?_
  rintro _ _ ⟨rfl, rfl⟩
  go_wp2_with fail
  go_ret
  exact ⟨by rw [HF.out]; rfl, HB.out⟩

set_option maxRecDepth 10000 in
set_option maxHeartbeats 1600000 in
theorem implEqualU_any (a : Option Addr) (n c lo : Nat) (l : List UE) (a' : Option Addr) (n' c' lo' : Nat) (l' : List UE) (w : World) (h : UpRow w lo (.slice a n c) l) (hn : n = l.length) (h' : UpRow w lo' (.slice a' n' c') l') (hn' : n' = l'.length) (hl : n ≤ 1099511627776) (hl' : n' ≤ 1099511627776) :
    Calls Tryz.prog 82 #[.slice a n c, .slice a' n' c', .func (.func 83) #[] #[]] w fun e w' => (∃ b : Bool, e = .returned (.bool b) ∧ (b = true ↔ l.map UE.u = l'.map UE.u)) ∧ Below w.heap.size w w' := by
  have HX : Hid (∀ W, Below w.heap.size w W → UpRow W lo (.slice a n c) l ∧ UpRow W lo' (.slice a' n' c') l') := fun W hb => ⟨h.stays hb, h'.stays hb⟩
  have HN : Hid (n = l.length) := hn
  have HN' : Hid (n' = l'.length) := hn'
  have eg : ∀ (args : Array Value) (w : World), Sem.run Tryz.prog (callFunc 83 args) w = .ok (.enter 83 args) w := enters_of Tryz.func83 (by kernel_rfl) rfl
  clear h h' hn hn'
  by_cases hnn : n = n'
  case neg =>
    have hnb : ((n : Int) != (n' : Int)) = true := by simp; omega
    have HF : Hid (¬ (l.map UE.u = l'.map UE.u)) := fun h => by
      have h1 := congrArg List.length h
      rw [List.length_map, List.length_map, ← HN.out, ← HN'.out] at h1
      exact hnn h1
    go_enter Tryz.func82, Tryz.ntmps82
    go_wp2_with fail
    go_ret
    exact ⟨⟨false, rfl, ⟨fun h => (by cases h), fun h => absurd h HF.out⟩⟩, Below.refl _ _⟩
  subst hnn
  go_enter Tryz.func82, Tryz.ntmps82
  go_wp2_with fail
  go_loopw [17] (fun v wr => ∃ k : Nat, k ≤ n ∧ v = .int .i64 (k : Int) ∧ Hid ((l.map UE.u).take k = (l'.map UE.u).take k) ∧ Hid (Below w.heap.size w wr)) (fun v _ => n - (intOf v).toNat)
  case atStart => exact ⟨0, Nat.zero_le _, rfl, rfl, Below.refl _ _⟩
  case round =>
    obtain ⟨k, hk, rfl, HT, HW⟩ := hrel
    by_cases hlt : k < n
    case neg =>
      obtain rfl : k = n := by omega
      have HF : Hid (l.map UE.u = l'.map UE.u) := by
        show _ = _
        have h1 := HT.out
        rw [List.take_of_length_le (by rw [List.length_map, ← HN.out]; exact Nat.le_refl _), List.take_of_length_le (by rw [List.length_map, ← HN'.out]; exact Nat.le_refl _)] at h1
        exact h1
      clear HT
      go_wp2_with fail
      go_ret
      exact ⟨⟨true, rfl, ⟨fun _ => HF.out, fun _ => rfl⟩⟩, HW.out⟩
    have hkl : k < l.length := by rw [← HN.out]; exact hlt
    have hkl' : k < l'.length := by rw [← HN'.out]; exact hlt
    have hki : (k : Int) < (n : Int) := by omega
    have hk0 : (0 : Int) ≤ (k : Int) := by omega
    obtain ⟨g, rfl, g0, g1, g2, g3, _⟩ := (HX.out _ HW.out).1.at HN.out hkl
    obtain ⟨q, rfl, q0, q1, q2, q3, _⟩ := (HX.out _ HW.out).2.at HN'.out hkl'
    have HA : Hid (∀ W, Below w.heap.size w W → Seg W (l[k]).a (l[k]).n (l[k]).u.zs ∧ Seg W (l'[k]).a (l'[k]).n (l'[k]).u.zs) := fun W hb => ⟨((HX.out W hb).1.2.1 _ (List.getElem_mem hkl)).seg, ((HX.out W hb).2.2.1 _ (List.getElem_mem hkl')).seg⟩
    have HNo : Hid ((l[k]).u ≠ (l'[k]).u → ¬ (l.map UE.u = l'.map UE.u)) := fun hne h => by
      have h1 := congrArg (fun x => x[k]?) h
      simp only [List.getElem?_map, List.getElem?_eq_getElem hkl, List.getElem?_eq_getElem hkl', Option.map_some, Option.some.injEq] at h1
      exact hne h1
    have HYe : Hid ((l[k]).u = (l'[k]).u → (l.map UE.u).take (k + 1) = (l'.map UE.u).take (k + 1)) := fun he => by
      rw [List.take_add_one, List.take_add_one, HT.out, List.getElem?_map, List.getElem?_map, List.getElem?_eq_getElem hkl, List.getElem?_eq_getElem hkl']
      simp [he]
    generalize l[k] = x at *
    generalize l'[k] = y at *
    obtain ⟨w2, hw2⟩ : ∃ w2, (wr.alloc (.cells #[.string x.u.id, .int .i64 x.u.want, .slice x.a x.n x.c, .bool x.u.done] 69)).alloc (.cells #[.string y.u.id, .int .i64 y.u.want, .slice y.a y.n y.c, .bool y.u.done] 69) = w2 := ⟨_, rfl⟩
    have hb2 : Below wr.heap.size wr w2 := by rw [← hw2]; exact ((Below.refl _ _).alloc (Nat.le_refl _) _).alloc (by simp) _
    have HB2 : Hid (Below w.heap.size w w2) := HW.out.trans (hb2.mono HW.out.size)
    have HC : Hid (Calls Tryz.prog 83 #[.agg #[.string x.u.id, .int .i64 x.u.want, .slice x.a x.n x.c, .bool x.u.done], .agg #[.string y.u.id, .int .i64 y.u.want, .slice y.a y.n y.c, .bool y.u.done]] w2 fun e w' => e = .returned (.bool (sameB x.u y.u)) ∧ Below w2.heap.size w2 w') := implSame_any x y w2 (HA.out _ HB2.out).1 (HA.out _ HB2.out).2
    have hb1 : Below wr.heap.size wr (wr.alloc (.cells #[.string x.u.id, .int .i64 x.u.want, .slice x.a x.n x.c, .bool x.u.done] 69)) := (Below.refl _ _).alloc (Nat.le_refl _) _
    have p0 := (hb1.cell (p := ⟨q, k * 4, none⟩) (lt_of_cell q0)).trans q0
    have p1 := (hb1.cell (p := ⟨q, k * 4 + 1, none⟩) (lt_of_cell q0)).trans q1
    have p2 := (hb1.cell (p := ⟨q, k * 4 + 2, none⟩) (lt_of_cell q0)).trans q2
    have p3 := (hb1.cell (p := ⟨q, k * 4 + 3, none⟩) (lt_of_cell q0)).trans q3
    have bx := (BoxN.new wr 69 [.string x.u.id, .int .i64 x.u.want, .slice x.a x.n x.c, .bool x.u.done]).alloc (.cells #[.string y.u.id, .int .i64 y.u.want, .slice y.a y.n y.c, .bool y.u.done] 69)
    rw [hw2] at bx
    have by' := BoxN.new (wr.alloc (.cells #[.string x.u.id, .int .i64 x.u.want, .slice x.a x.n x.c, .bool x.u.done] 69)) 69 [.string y.u.id, .int .i64 y.u.want, .slice y.a y.n y.c, .bool y.u.done]
    rw [World.size_alloc] at by'
    have by2 : BoxN w2 (wr.heap.size + 1) 69 [.string y.u.id, .int .i64 y.u.want, .slice y.a y.n y.c, .bool y.u.done] := by rw [← hw2]; exact by'
    have t0 := by2.cell 0 rfl
    have t1 := by2.cell 1 rfl
    have t2 := by2.cell 2 rfl
    have t3 := by2.cell 3 rfl
    have z0 := bx.cell 0 rfl
    have z1 := bx.cell 1 rfl
    have z2 := bx.cell 2 rfl
    have z3 := bx.cell 3 rfl
    go_wp2_with fail
    refine HC.out.mono ?_
    rintro _ w3 ⟨rfl, hb3⟩
    have HB3 : Hid (Below w.heap.size w w3) := HB2.out.trans (hb3.mono HB2.out.size)
    clear bx by' by2 t0 t1 t2 t3 z0 z1 z2 z3 hb3 hb2 hb1 p0 p1 p2 p3 HC hw2 g0 g1 g2 g3 q0 q1 q2 q3
    by_cases hs : x.u = y.u
    · have HT2 : Hid ((l.map UE.u).take (k + 1) = (l'.map UE.u).take (k + 1)) := HYe.out hs
      rw [sameB_iff.2 hs]
      clear hs HNo HYe HT
      go_wp2_with fail
      go_roundw
      case rel => exact ⟨k + 1, by omega, by go_num, HT2, HB3⟩
      case measure => simp [intOf]; omega
    · have HF : Hid (¬ (l.map UE.u = l'.map UE.u)) := HNo.out hs
      rw [show sameB x.u y.u = false from by rw [Bool.eq_false_iff]; exact fun h => hs (sameB_iff.1 h)]
      clear hs HNo HYe HT
      go_wp2_with fail
      go_ret
      exact ⟨⟨false, rfl, ⟨fun h => (by cases h), fun h => absurd h HF.out⟩⟩, HB3.out⟩

end Go.Proofs.YtammmecddnafaaaGreatDoor

namespace Go.Proofs.YtammmecddnafaaaGreatDoor
open Go.RowKit
set_option linter.unusedVariables false

/-- Whether a sector may be as it is. -/
def fitsD (x : ByteArray) : Bool := decide (x.size ≤ 64)

/-- A disk that is right. -/
def okD (xs ys : List ByteArray) : Bool := decide (xs.length = ys.length ∧ xs.length ≤ 200) && (xs.all fitsD && ys.all fitsD)

theorem okD_len {xs ys : List ByteArray} (h : ¬ (xs.length = ys.length ∧ xs.length ≤ 200)) : okD xs ys = false := by
  rw [okD, decide_eq_false h, Bool.false_and]

theorem okD_bad {xs ys : List ByteArray} {k : Nat} {x y : ByteArray} (hx : xs[k]? = some x) (hy : ys[k]? = some y) (h : 64 < x.size ∨ 64 < y.size) : okD xs ys = false := by
  rcases h with h | h
  · have : xs.all fitsD = false := by
      rw [List.all_eq_false]
      exact ⟨x, List.mem_of_getElem? hx, by simp [fitsD]; omega⟩
    rw [okD, this, Bool.false_and, Bool.and_false]
  · have : ys.all fitsD = false := by
      rw [List.all_eq_false]
      exact ⟨y, List.mem_of_getElem? hy, by simp [fitsD]; omega⟩
    rw [okD, this, Bool.and_false, Bool.and_false]

theorem okD_good {xs ys : List ByteArray} (hl : xs.length = ys.length) (hb : xs.length ≤ 200) (h : ∀ (i : Nat) (x y : ByteArray), xs[i]? = some x → ys[i]? = some y → x.size ≤ 64 ∧ y.size ≤ 64) : okD xs ys = true := by
  have h1 : xs.all fitsD = true := by
    rw [List.all_eq_true]
    intro x hx
    obtain ⟨i, hi, rfl⟩ := List.mem_iff_getElem.1 hx
    have := (h i _ _ (List.getElem?_eq_getElem hi) (List.getElem?_eq_getElem (by omega))).1
    simp [fitsD, this]
  have h2 : ys.all fitsD = true := by
    rw [List.all_eq_true]
    intro y hy
    obtain ⟨i, hi, rfl⟩ := List.mem_iff_getElem.1 hy
    have := (h i _ _ (List.getElem?_eq_getElem (by omega)) (List.getElem?_eq_getElem hi)).2
    simp [fitsD, this]
  rw [okD, h1, h2, decide_eq_true ⟨hl, hb⟩]
  rfl

theorem okD_iff {xs ys : List ByteArray} : okD xs ys = true ↔ xs.length = ys.length ∧ xs.length ≤ 200 ∧ (∀ x ∈ xs, x.size ≤ 64) ∧ ∀ y ∈ ys, y.size ≤ 64 := by
  simp [okD, fitsD, List.all_eq_true, and_assoc]

/-- The sector at i. -/
def secAt (xs : List ByteArray) (i : Int) : ByteArray := if 0 ≤ i ∧ i < xs.length then xs.getD i.toNat ⟨#[]⟩ else ⟨#[]⟩

end Go.Proofs.YtammmecddnafaaaGreatDoor

namespace Go.Proofs.YtammmecddnafaaaGreatDoor
open Go.RowKit
set_option linter.unusedVariables false

theorem ret_bD {a b : Bool} (h : a = b) : Ending.returned (.bool a) = .returned (.bool b) := by rw [h]

theorem implLong_any (s : ByteArray) (w : World) (hs : s.size ≤ maxLen) :
    Calls Tryz.prog 95 #[.string s] w fun e w' => e = .returned (.bool (!fitsD s)) ∧ w' = w := by
  have hmm : maxLen < 9223372036854775808 := by decide
  have HF : Hid ((!fitsD s) = decide ((64 : Int) < (s.size : Int))) := by
    show _ = _
    rw [fitsD, ← decide_not, decide_eq_decide]
    omega
  go_enter Tryz.func95, Tryz.ntmps95
  go_wp2_with fail
  go_ret
  exact ⟨ret_bD HF.out.symm, rfl⟩

end Go.Proofs.YtammmecddnafaaaGreatDoor

namespace Go.Proofs.YtammmecddnafaaaGreatDoor
open Go.RowKit
set_option linter.unusedVariables false

/-- Whether one of the texts is too long. -/
def anyL (xs : List ByteArray) : Bool := !xs.all fitsD

theorem anyL_false {xs : List ByteArray} (h : ∀ (k : Nat) (x : ByteArray), xs[k]? = some x → fitsD x = true) : anyL xs = false := by
  have : xs.all fitsD = true := by
    rw [List.all_eq_true]
    intro f hf
    obtain ⟨k, hk, rfl⟩ := List.mem_iff_getElem.1 hf
    exact h k _ (List.getElem?_eq_getElem hk)
  rw [anyL, this]
  rfl

theorem anyL_true {xs : List ByteArray} {k : Nat} {x : ByteArray} (h : xs[k]? = some x) (hw : fitsD x = false) : anyL xs = true := by
  have : xs.all fitsD = false := by
    rw [List.all_eq_false]
    exact ⟨x, List.mem_of_getElem? h, by simp [hw]⟩
  rw [anyL, this]
  rfl

set_option maxRecDepth 10000 in
set_option maxHeartbeats 800000 in
theorem implIdxL_any (a : Option Addr) (len cap : Nat) (xs : List ByteArray) (w : World) (hx : Strs w a len xs) (hl : len ≤ 1099511627776) :
    Calls Tryz.prog 114 #[.slice a len cap, .func (.func 95) #[] #[]] w fun e w' => (∃ k : Int, e = .returned (.int .i64 k) ∧ decide (0 ≤ k) = anyL xs) ∧ Below w.heap.size w w' := by
  have HX : Hid (Strs w a len xs) := hx
  have HL : Hid (xs.length = len) := hx.1
  clear hx
  go_enter Tryz.func114, Tryz.ntmps114
  go_wp2_with fail
  go_loopw [8] (fun v wr => ∃ k : Nat, k ≤ len ∧ v = .int .i64 k ∧ Hid (Below w.heap.size w wr) ∧ Hid (∀ (j : Nat) (x : ByteArray), j < k → xs[j]? = some x → fitsD x = true)) (fun v _ => len - (intOf v).toNat)
  case atStart => exact ⟨0, Nat.zero_le _, rfl, Below.refl _ _, fun j _ hj => absurd hj (Nat.not_lt_zero _)⟩
  case round =>
    obtain ⟨k, hk, rfl, HB, HN⟩ := hrel
    by_cases hlt : k < len
    · have hki : (k : Int) < (len : Int) := by omega
      obtain ⟨b, off, x, rfl, hb, hkx, hp⟩ := (HX.out.below HB.out).at hlt
      have hxm := HX.out.2.1 x (List.mem_of_getElem? hkx)
      have HK : Hid (xs[k]? = some x) := hkx
      have HO : Hid (∀ W : World, Calls Tryz.prog 95 #[.string x] W fun e w' => e = .returned (.bool (!fitsD x)) ∧ w' = W) := fun W => implLong_any x W hxm
      clear hkx hxm
      go_wp2_with fail
      refine (HO.out _).mono ?_
      rintro e w1 ⟨rfl, rfl⟩
      cases hpr : fitsD x
      case false =>
        have HE : Hid (anyL xs = true) := anyL_true HK.out hpr
        clear hpr
        go_wp2_with fail
        go_ret
        exact ⟨⟨k, rfl, by rw [HE.out]; simp⟩, HB.out⟩
      case true =>
        have HN2 : Hid (∀ (j : Nat) (x : ByteArray), j < k + 1 → xs[j]? = some x → fitsD x = true) := fun j u hj hju => by
          by_cases e : j = k
          · subst e
            rw [HK.out] at hju
            injection hju with e1
            rw [← e1]
            exact hpr
          · exact HN.out j u (by omega) hju
        clear hpr HN
        go_wp2_with fail
        go_roundw
        case rel => exact ⟨k + 1, by omega, by go_num, HB, HN2⟩
        case measure => simp [intOf]; omega
    · have HE : Hid (anyL xs = false) := anyL_false fun j x hjx => HN.out j x (by have := (List.getElem?_eq_some_iff.1 hjx).1; have := HL.out; omega) hjx
      have hkl : len = k := by omega
      clear HN HX HL
      subst hkl
      go_wp2_with fail
      go_ret
      exact ⟨⟨-1, rfl, by rw [HE.out]; rfl⟩, HB.out⟩

set_option maxRecDepth 10000 in
theorem implAnyL_any (a : Option Addr) (len cap : Nat) (xs : List ByteArray) (w : World) (hx : Strs w a len xs) (hl : len ≤ 1099511627776) :
    Calls Tryz.prog 103 #[.slice a len cap, .func (.func 95) #[] #[]] w fun e w' => e = .returned (.bool (anyL xs)) ∧ Below w.heap.size w w' := by
  go_enter Tryz.func103, Tryz.ntmps103
  go_wp2_with fail
  refine (implIdxL_any a len cap xs w hx hl).mono ?_
  rintro e w1 ⟨⟨k, rfl, hk⟩, hb1⟩
  have HK : Hid (decide (0 ≤ k) = anyL xs) := hk
  have HB1 : Hid (Below w.heap.size w w1) := hb1
  clear hk hb1 hx
  go_wp2_with fail
  go_ret
  exact ⟨ret_bD HK.out, HB1.out⟩

end Go.Proofs.YtammmecddnafaaaGreatDoor

namespace Go.Proofs.YtammmecddnafaaaGreatDoor
open Go.RowKit
set_option linter.unusedVariables false

set_option maxRecDepth 10000 in
set_option maxHeartbeats 1600000 in
theorem implDok_any (a : Option Addr) (n ca : Nat) (xs : List ByteArray) (a' : Option Addr) (n' ca' : Nat) (ys : List ByteArray) (w : World) (h1 : Strs w a n xs) (h3 : Strs w a' n' ys) (hn : n ≤ 1099511627776) (hn' : n' ≤ 1099511627776) :
    Calls Tryz.prog 81 #[.agg #[.slice a n ca, .slice a' n' ca']] w fun e w' => e = .returned (.bool (okD xs ys)) ∧ Below w.heap.size w w' := by
  have HX : Hid (∀ W, Below w.heap.size w W → Strs W a n xs ∧ Strs W a' n' ys) := fun W h => ⟨h1.below h, h3.below h⟩
  have HL : Hid (xs.length = n ∧ ys.length = n') := ⟨h1.1, h3.1⟩
  clear h1 h3
  have HA : Hid (Box2R (w.alloc (Obj.cells #[Value.slice a n ca, Value.slice a' n' ca'] 29)) w.heap.size 29 (.slice a n ca) (.slice a' n' ca')) := Box2R.new _ _ _ _
  have HB : Hid (Below w.heap.size w (w.alloc (Obj.cells #[Value.slice a n ca, Value.slice a' n' ca'] 29))) := (Below.refl _ _).alloc (Nat.le_refl _) _
  by_cases hne : n = n'
  case neg =>
    have HF : Hid (okD xs ys = false) := okD_len (fun h => hne (by rw [← HL.out.1, ← HL.out.2]; exact h.1))
    have e1 : ((n : Int) != (n' : Int)) = true := by simp; omega
    go_enter Tryz.func81, Tryz.ntmps81
    go_wp2_with fail
    go_ret
    exact ⟨by rw [HF.out]; rfl, HB.out⟩
  subst hne
  have e1 : ((n : Int) != (n : Int)) = false := by simp
  by_cases hbig : 200 < n
  · have HF : Hid (okD xs ys = false) := okD_len (fun h => by have := HL.out; omega)
    go_enter Tryz.func81, Tryz.ntmps81
    go_wp2_with fail
    go_ret
    exact ⟨by rw [HF.out]; rfl, HB.out⟩
  have HO : Hid (okD xs ys = (!anyL xs && !anyL ys)) := by
    show _ = _
    rw [okD, anyL, anyL, decide_eq_true (show xs.length = ys.length ∧ xs.length ≤ 200 by have := HL.out; omega), Bool.true_and, Bool.not_not, Bool.not_not]
  go_enter Tryz.func81, Tryz.ntmps81
  go_wp2_with fail
  obtain ⟨w0, hw0⟩ : ∃ w0, w.alloc (Obj.cells #[Value.slice a n ca, Value.slice a' n ca'] 29) = w0 := ⟨_, rfl⟩
  rw [hw0] at HA HB ⊢
  clear hw0
  refine (implAnyL_any a n ca xs _ (HX.out _ HB.out).1 hn).mono ?_
  rintro e w1 ⟨rfl, hb1⟩
  have HB1 : Hid (Below w.heap.size w w1) := HB.out.trans (hb1.mono HB.out.size)
  obtain ⟨c0, c1⟩ := (HA.out.stays hb1).cells
  clear hb1 HB HA
  cases hA : anyL xs
  · have HF : Hid (okD xs ys = !anyL ys) := by show _ = _; rw [HO.out, hA]; rfl
    clear hA HO
    go_wp2_with fail
    refine (implAnyL_any a' n ca' ys _ (HX.out _ HB1.out).2 hn).mono ?_
    rintro e w2 ⟨rfl, hb2⟩
    have HB2 : Hid (Below w.heap.size w w2) := HB1.out.trans (hb2.mono HB1.out.size)
    clear hb2
    go_wp2_with fail
    go_ret
    exact ⟨ret_bD HF.out.symm, HB2.out⟩
  · have HF : Hid (okD xs ys = false) := by show _ = _; rw [HO.out, hA]; rfl
    clear hA HO
    go_wp2_with fail
    go_ret
    exact ⟨ret_bD HF.out.symm, HB1.out⟩

end Go.Proofs.YtammmecddnafaaaGreatDoor

namespace Go.Proofs.YtammmecddnafaaaGreatDoor
open Go.RowKit

/-- What GetBig answers. -/
def gbr (zs : List Int) (at_ k : Int) : Int × Bool :=
  if 1 ≤ k ∧ k ≤ 7 ∧ 0 ≤ at_ ∧ at_ + k ≤ (zs.length : Int) then (gb ((zs.drop at_.toNat).take k.toNat), true) else (0, false)

end Go.Proofs.YtammmecddnafaaaGreatDoor

namespace Go.Proofs.YtammmecddnafaaaGreatDoor
open Go.RowKit

set_option maxHeartbeats 400000 in
theorem implGet_yes (a : Option Addr) (len cap at_ k : Nat) (zs : List Int) (w : World) (hs : Seg w a len zs) (hcap : len ≤ cap) (hl : len ≤ 1099511627776) (h1 : 1 ≤ k) (h7 : k ≤ 7) (hat : at_ + k ≤ len) :
    Calls Tryz.prog 118 #[.slice a len cap, .int .i64 at_, .int .i64 k] w fun e w' => e = .returned (.tuple #[.int .i64 (gb ((zs.drop at_).take k)), .bool true]) ∧ w' = w := by
  have hl0 : 0 < len := by omega
  obtain ⟨b, off, rfl, hb, hc⟩ : ∃ b off, a = some ⟨b, off, none⟩ ∧ b < w.heap.size ∧ ∀ i, i < len → w.cell? ⟨b, off + i, none⟩ = some (.int .u8 (zs.getD i 0)) := by
    rcases hs.2.2 with h | h
    · omega
    · exact h
  have HS : Hid (Seg w (some ⟨b, off, none⟩) len zs) := hs
  have hC : Hid (∀ i, i < len → w.cell? ⟨b, off + i, none⟩ = some (.int .u8 (zs.getD i 0))) := hc
  clear hc hs
  go_enter Tryz.func118, Tryz.ntmps118
  go_wp2
  go_loop [8, 34] (fun n i => ∃ j : Nat, j ≤ k ∧ i = .int .i64 j ∧ n = .int .i64 (gb ((zs.drop at_).take j))) (fun _ i => k - (intOf i).toNat)
  case atStart => exact ⟨0, Nat.zero_le _, rfl, rfl⟩
  case round =>
    obtain ⟨j, hj, rfl, rfl⟩ := hrel
    by_cases hlt : j < k
    · have hcell : w.cell? ⟨b, off + at_ + j, none⟩ = some (.int .u8 (zs.getD (at_ + j) 0)) := by rw [Nat.add_assoc]; exact hC.out (at_ + j) (by omega)
      have hx := HS.out.range (at_ + j)
      have hm := gb_part_bound zs at_ j HS.out.2.1 (by omega)
      have hsn : Hid (gb ((zs.drop at_).take (j + 1)) = gb ((zs.drop at_).take j) * 256 + zs.getD (at_ + j) 0) := by
        show gb _ = _
        rw [drop_take_snoc zs at_ j (by have := HS.out.1; omega), gb_snoc]
      have hmm := gb_part_small zs at_ j HS.out.2.1 (by omega)
      generalize gb ((zs.drop at_).take j) = m at *
      generalize zs.getD (at_ + j) 0 = x at *
      obtain ⟨hx0, hx1⟩ := hx
      obtain ⟨hm0, hm1⟩ := hm
      have hor := join8 m x hm0 (by omega) hx0 hx1
      go_wp2
      go_round
      case rel => exact ⟨j + 1, by omega, by go_num, by rw [hsn.out]⟩
      case measure => simp [intOf]; omega
    · go_wp2
      go_ret2
      have : j = k := by omega
      subst this
      exact ⟨rfl, rfl⟩

set_option maxHeartbeats 400000 in
theorem implGet_no (a : Option Addr) (len cap : Nat) (at_ k : Int) (w : World) (hl : len ≤ 1099511627776) (ha : -9223372036854775808 ≤ at_ ∧ at_ ≤ 9223372036854775807) (hk : -9223372036854775808 ≤ k ∧ k ≤ 9223372036854775807)
    (h : ¬ (1 ≤ k ∧ k ≤ 7 ∧ 0 ≤ at_ ∧ at_ + k ≤ (len : Int))) :
    Calls Tryz.prog 118 #[.slice a len cap, .int .i64 at_, .int .i64 k] w fun e w' => e = .returned (.tuple #[.int .i64 0, .bool false]) ∧ w' = w := by
  obtain ⟨ha0, ha1⟩ := ha
  obtain ⟨hk0, hk1⟩ := hk
  have H : Hid (¬ (1 ≤ k ∧ k ≤ 7 ∧ 0 ≤ at_ ∧ at_ + k ≤ (len : Int))) := h
  clear h
  by_cases h1 : 1 ≤ k
  · by_cases h7 : k ≤ 7
    · by_cases h0 : 0 ≤ at_
      · have h2 : (len : Int) < at_ + k := by have := H.out; omega
        go_enter Tryz.func118, Tryz.ntmps118
        go_wp2
        go_ret2
        exact ⟨rfl, rfl⟩
      · go_enter Tryz.func118, Tryz.ntmps118
        go_wp2
        go_ret2
        exact ⟨rfl, rfl⟩
    · go_enter Tryz.func118, Tryz.ntmps118
      go_wp2
      go_ret2
      exact ⟨rfl, rfl⟩
  · go_enter Tryz.func118, Tryz.ntmps118
    go_wp2
    go_ret2
    exact ⟨rfl, rfl⟩

theorem implGet_any (a : Option Addr) (len cap : Nat) (at_ k : Int) (zs : List Int) (w : World) (hs : Seg w a len zs) (hcap : len ≤ cap) (hl : len ≤ 1099511627776) (ha : -9223372036854775808 ≤ at_ ∧ at_ ≤ 9223372036854775807) (hk : -9223372036854775808 ≤ k ∧ k ≤ 9223372036854775807) :
    Calls Tryz.prog 118 #[.slice a len cap, .int .i64 at_, .int .i64 k] w fun e w' => e = .returned (.tuple #[.int .i64 (gbr zs at_ k).1, .bool (gbr zs at_ k).2]) ∧ w' = w := by
  have hz := hs.1
  by_cases h : 1 ≤ k ∧ k ≤ 7 ∧ 0 ≤ at_ ∧ at_ + k ≤ (zs.length : Int)
  · obtain ⟨K, rfl⟩ := Int.eq_ofNat_of_zero_le (show 0 ≤ k by omega)
    obtain ⟨T, rfl⟩ := Int.eq_ofNat_of_zero_le h.2.2.1
    rw [gbr, if_pos h, Int.toNat_natCast, Int.toNat_natCast]
    exact implGet_yes a len cap T K zs w hs hcap hl (by omega) (by omega) (by omega)
  · rw [gbr, if_neg h]
    exact implGet_no a len cap at_ k w hl ha hk (by omega)

end Go.Proofs.YtammmecddnafaaaGreatDoor

namespace Go.Proofs.YtammmecddnafaaaGreatDoor
open Go.RowKit
set_option linter.unusedVariables false

theorem gbrN (zs : List Int) (at_ k : Nat) (h1 : 1 ≤ k) (h7 : k ≤ 7) : gbr zs (at_ : Int) (k : Int) = if at_ + k ≤ zs.length then (gb ((zs.drop at_).take k), true) else (0, false) := by
  split
  · rename_i h
    rw [gbr, if_pos ⟨by omega, by omega, by omega, by omega⟩, Int.toNat_natCast, Int.toNat_natCast]
  · rename_i h
    rw [gbr, if_neg (by omega)]

theorem gbr_at {zs : List Int} {at_ k : Nat} (h1 : 1 ≤ k) (h7 : k ≤ 7) (h : at_ + k ≤ zs.length) : (gbr zs (at_ : Int) (k : Int)).1 = gb ((zs.drop at_).take k) := by rw [gbrN _ _ _ h1 h7, if_pos h]

/-- How many bytes are told behind a place, and these. -/
def shortN (l : List Int) (T : Nat) : Nat := (gbr l (T : Int) ((1 : Nat) : Int)).1.toNat
def shortL (l : List Int) (T : Nat) : List Int := if T + 1 + shortN l T ≤ l.length then (l.drop (T + 1)).take (shortN l T) else []

theorem gb_one (l : List Int) (hr : ∀ x ∈ l, 0 ≤ x ∧ x ≤ 255) (k : Nat) : 0 ≤ gb ((l.drop k).take 1) ∧ gb ((l.drop k).take 1) ≤ 255 := by
  have h := gb_bound ((l.drop k).take 1) (fun n hn => hr n (List.mem_of_mem_drop (List.mem_of_mem_take hn)))
  have hl : ((l.drop k).take 1).length ≤ 1 := by simp; omega
  have hp : (256 : Nat) ^ ((l.drop k).take 1).length ≤ 256 ^ 1 := Nat.pow_le_pow_right (by omega) hl
  omega

theorem shortN_is (l : List Int) (hr : ∀ x ∈ l, 0 ≤ x ∧ x ≤ 255) (T : Nat) : (gbr l (T : Int) ((1 : Nat) : Int)).1 = (shortN l T : Int) ∧ shortN l T ≤ 255 := by
  have h := gb_one l hr T
  rw [shortN, gbrN l T 1 (by omega) (by omega)]
  split
  · dsimp only
    omega
  · simp

theorem shortL_len (l : List Int) (T : Nat) : (shortL l T).length = if T + 1 + shortN l T ≤ l.length then shortN l T else 0 := by
  rw [shortL]
  split
  · simp
    omega
  · rfl

/-- The record that is told. -/
def looseR (l : List Int) : R :=
  ⟨(gbr l ((0 : Nat) : Int) ((3 : Nat) : Int)).1, (gbr l ((3 : Nat) : Int) ((2 : Nat) : Int)).1, (gbr l ((5 : Nat) : Int) ((1 : Nat) : Int)).1, txU (shortL l 6), (gbr l ((7 + shortN l 6 : Nat) : Int) ((4 : Nat) : Int)).1, shortL l (11 + shortN l 6)⟩

/-- Where all is there it is that one. -/
theorem loose_is {l : List Int} (h : 16 + idN l + dataN l ≤ l.length) : looseR l = parseR l := by
  have e6 : shortN l 6 = idN l := by rw [shortN, gbr_at (by omega) (by omega) (by omega), idN]
  have e7 : shortL l 6 = (l.drop 7).take (idN l) := by rw [shortL, e6, if_pos (by omega)]
  have e11 : shortN l (11 + idN l) = dataN l := by rw [shortN, gbr_at (by omega) (by omega) (by omega), dataN]
  have e12 : shortL l (11 + idN l) = (l.drop (12 + idN l)).take (dataN l) := by
    rw [shortL, e11, if_pos (by omega), show 11 + idN l + 1 = 12 + idN l by omega]
  rw [looseR, e6, e7, e12, parseR, gbr_at (by omega) (by omega) (by omega), gbr_at (by omega) (by omega) (by omega), gbr_at (by omega) (by omega) (by omega), gbr_at (by omega) (by omega) (by omega), List.drop_zero]

theorem loose_some {s : ByteArray} (h1 : (looseR (txI s)).ok = true) (h2 : (looseR (txI s)).put = txI s) : recOf s = some (looseR (txI s)) := recOf_iff.2 ⟨h1, h2⟩

theorem loose_none {s : ByteArray} (h : ¬ ((looseR (txI s)).ok = true ∧ (looseR (txI s)).put = txI s)) : recOf s = none := by
  cases hr : recOf s with
  | none => rfl
  | some r =>
    have hl := recOf_len (s := s) (by rw [hr]; exact Option.some_ne_none r)
    have e := loose_is (l := txI s) (by rw [txI_len]; omega)
    have hp := recOf_iff.1 hr
    have : recOf s = some (parseR (txI s)) := by
      rw [recOf] at hr ⊢
      split
      · rfl
      · rename_i hn
        rw [if_neg hn] at hr
        cases hr
    rw [hr] at this
    injection this with this
    exact absurd (by rw [e, ← this]; exact hp) h

theorem recOf_long {s : ByteArray} (h : 48 < s.size) : recOf s = none := by
  cases hr : recOf s with
  | none => rfl
  | some r =>
    have hl := recOf_len (s := s) (by rw [hr]; exact Option.some_ne_none r)
    omega

end Go.Proofs.YtammmecddnafaaaGreatDoor
