/- Rows of texts in memory: what they hold, rows that a call has made. No statement of the program but its table of types. Blocks of one type that stay while those of others are written. No program in it but its table of types. The marks laid into a row of uploads. -/
import Derived.Test.YtogopmngbjkcjatDoorM06
import Derived.Deep.QuietTactic
import Derived.Test.YtogopmngbjkcjatDoorM08
import Derived.Test.YtogopmngbjkcjatDoorM10
import Derived.Test.YtogopmngbjkcjatDoorM07
import Derived.Test.YtogopmngbjkcjatDoorM07
import Derived.Deep.CutBlock
namespace Go.Proofs.YtogopmngbjkcjatDoor
open Go.RowKit
set_option linter.unusedVariables false

/-- The cells of a row of texts. -/
def scells (l : List ByteArray) : List Value := l.map Value.string

theorem scells_len (l : List ByteArray) : (scells l).length = l.length := List.length_map ..

theorem scells_at (l : List ByteArray) (i : Nat) (hi : i < l.length) : (scells l)[i]? = some (.string (l[i])) := by
  simp [scells, hi]

theorem scells_append (l r : List ByteArray) : scells (l ++ r) = scells l ++ scells r := by simp [scells]

theorem scells_set (l : List ByteArray) (x : ByteArray) (k : Nat) : (scells l).set k (.string x) = scells (l.set k x) := by simp [scells, List.map_set]

theorem scells_one (l : List ByteArray) : ∀ u ∈ scells l, u.oneCell' = true := by
  intro u hu
  simp only [scells, List.mem_map] at hu
  obtain ⟨x, _, rfl⟩ := hu
  rfl

/-- The bytes of texts. -/
def strBytes (l : List ByteArray) : Nat := (l.map ByteArray.size).sum

theorem strBytes_step (l : List ByteArray) (k : Nat) (x : ByteArray) (h : l[k]? = some x) : strBytes (l.take (k + 1)) = strBytes (l.take k) + x.size := by
  rw [List.take_add_one, h]
  simp [strBytes]

theorem strBytes_mem (l : List ByteArray) (x : ByteArray) (h : x ∈ l) : x.size ≤ strBytes l := by
  induction l with
  | nil => cases h
  | cons y l ih =>
    have e : strBytes (y :: l) = y.size + strBytes l := by simp [strBytes]
    rcases List.mem_cons.1 h with rfl | h
    · omega
    · have := ih h
      omega

/-- The slice (a, n) holds the texts l in the world w. -/
def Strs (w : World) (a : Option Addr) (n : Nat) (l : List ByteArray) : Prop :=
  l.length = n ∧ (∀ x ∈ l, x.size ≤ maxLen) ∧
  (n = 0 ∨ ∃ b off, a = some ⟨b, off, none⟩ ∧ b < w.heap.size ∧ ∀ i (hi : i < l.length), w.cell? ⟨b, off + i, none⟩ = some (.string (l[i])))

theorem Strs.below {w w' : World} {a : Option Addr} {n : Nat} {l : List ByteArray} (h : Strs w a n l) (hb : Below w.heap.size w w') : Strs w' a n l := by
  obtain ⟨h1, h2, h3⟩ := h
  refine ⟨h1, h2, ?_⟩
  rcases h3 with h0 | ⟨b, off, ha, hlt, hc⟩
  · exact .inl h0
  · exact .inr ⟨b, off, ha, Nat.lt_of_lt_of_le hlt hb.size, fun i hi => (hb.cell (p := ⟨b, off + i, none⟩) hlt).trans (hc i hi)⟩

/-- The cell at one index. -/
theorem Strs.at {w : World} {a : Option Addr} {n : Nat} {l : List ByteArray} (h : Strs w a n l) {k : Nat} (hk : k < n) : ∃ b off x, a = some ⟨b, off, none⟩ ∧ b < w.heap.size ∧ l[k]? = some x ∧ w.cell? ⟨b, off + k, none⟩ = some (.string x) := by
  obtain ⟨h1, h2, h3⟩ := h
  rcases h3 with h0 | ⟨b, off, ha, hlt, hc⟩
  · omega
  · have hk' : k < l.length := by omega
    exact ⟨b, off, l[k], ha, hlt, List.getElem?_eq_getElem hk', hc k hk'⟩

theorem Strs.cells {w : World} {a : Option Addr} {n : Nat} {l : List ByteArray} (h : Strs w a n l) : ∀ ad, a = some ad → ∀ j u, (scells l)[j]? = some u → w.cell? (ad.add j) = some u := by
  intro ad ha j u hj
  have hjl : j < l.length := by
    rw [← scells_len]
    exact (List.getElem?_eq_some_iff.1 hj).1
  rcases h.2.2 with h0 | ⟨b, off, e, hb, hc⟩
  · have := h.1
    omega
  · rw [ha] at e
    injection e with e
    subst e
    have hadd : (⟨b, off, none⟩ : Addr).add j = ⟨b, off + j, none⟩ := by unfold Addr.add; split <;> simp_all
    rw [hadd, hc j hjl, ← scells_at l j hjl, hj]

theorem Strs.none_nil {w : World} {a : Option Addr} {n : Nat} {l : List ByteArray} (h : Strs w a n l) (ha : a = none) : n = 0 := by
  rcases h.2.2 with h0 | ⟨b, off, e, _⟩
  · exact h0
  · rw [ha] at e
    cases e

theorem Strs.nil (w : World) (a : Option Addr) : Strs w a 0 [] := ⟨rfl, by simp, .inl rfl⟩

/-- A slice value that owns these texts, in a block from base on. -/
def OwnSt (w : World) (base : Nat) (v : Value) (n : Nat) (l : List ByteArray) : Prop := w.ownsRow base 9 1 v n (scells l) ∧ ∀ x ∈ l, x.size ≤ maxLen

theorem OwnSt.len {w : World} {base n : Nat} {v : Value} {l : List ByteArray} (h : OwnSt w base v n l) : l.length = n := by
  have := h.1.1
  rw [scells_len] at this
  omega

theorem OwnSt.shape {w : World} {base n : Nat} {v : Value} {l : List ByteArray} (h : OwnSt w base v n l) : ∃ a cap, v = .slice a n cap := by
  rcases h.1.2 with ⟨rfl, rfl⟩ | ⟨g, cap, cur, rfl, _⟩
  · exact ⟨_, _, rfl⟩
  · exact ⟨_, _, rfl⟩

theorem OwnSt.strs {w : World} {base n cap : Nat} {a : Option Addr} {l : List ByteArray} (h : OwnSt w base (.slice a n cap) n l) : Strs w a n l := by
  have hl := h.len
  refine ⟨hl, h.2, ?_⟩
  rcases h.1.2 with ⟨_, hn⟩ | ⟨g, cap', cur, he, hb, hg, hn, hm, hc, ht⟩
  · exact .inl hn
  · injection he with e1 e2 e3
    subst e1
    refine .inr ⟨g, 0, rfl, (Array.getElem?_eq_some_iff.1 hg).1, fun i hi => ?_⟩
    have hi' : i < n := by omega
    rw [Nat.zero_add, cell_of_row w g i cur _ (0, 0) hg, ← scells_at l i hi, ← ht, List.getElem?_take, if_pos (by omega), Array.getElem?_toList]

theorem OwnSt.below {w w' : World} {base n : Nat} {v : Value} {l : List ByteArray} (h : OwnSt w base v n l) (hb : Below w.heap.size w w') : OwnSt w' base v n l := by
  refine ⟨⟨h.1.1, ?_⟩, h.2⟩
  rcases h.1.2 with h0 | ⟨g, cap, cur, he, hg, hh, r⟩
  · exact .inl h0
  · exact .inr ⟨g, cap, cur, he, hg, (hb.block g (Array.getElem?_eq_some_iff.1 hh).1).trans hh, r⟩

theorem OwnSt.grown {w w' : World} {base n : Nat} {v : Value} {l : List ByteArray} {r : Option Nat} (h : OwnSt w base v n l) (hg : w.grownBy w' r) (hr : ∀ q, r = some q → ∀ p m c, v = .slice (some p) m c → p.block ≠ q) : OwnSt w' base v n l := by
  refine ⟨⟨h.1.1, ?_⟩, h.2⟩
  rcases h.1.2 with h0 | ⟨g, cap, cur, he, hgb, hh, rest⟩
  · exact .inl h0
  · refine .inr ⟨g, cap, cur, he, hgb, (hg.block g (Array.getElem?_eq_some_iff.1 hh).1 ?_).trans hh, rest⟩
    intro e
    exact hr g e.symm _ _ _ he rfl

theorem info_string : (Tryd.prog.info? 9).map (fun i => (i.zero, i.size, i.bytes)) = some (some (.string ⟨#[]⟩), 1, 16) := by kernel_rfl

/-- A row that is copied up to k. -/
def srowTo (l : List ByteArray) (len k : Nat) : List ByteArray := l.take k ++ List.replicate (len - k) ⟨#[]⟩

theorem srowTo_step (l : List ByteArray) (len k : Nat) (x : ByteArray) (h : l[k]? = some x) (hk : k < len) : (srowTo l len k).set k x = srowTo l len (k + 1) := by
  have hl : k < l.length := (List.getElem?_eq_some_iff.1 h).1
  have ht : (l.take k).length = k := by simp; omega
  rw [srowTo, srowTo, List.set_append_right k _ (by omega), ht, Nat.sub_self, List.take_add_one, h, show len - k = (len - (k + 1)) + 1 by omega, List.replicate_succ]
  simp

theorem srowTo_len (l : List ByteArray) (len k : Nat) (h : l.length = len) (hk : k ≤ len) : (srowTo l len k).length = len := by
  simp [srowTo]; omega

end Go.Proofs.YtogopmngbjkcjatDoor

namespace Go.Proofs.YtogopmngbjkcjatDoor
open Go.RowKit
set_option linter.unusedVariables false

/-- All blocks of texts are as they were. -/
def KeptT (w w' : World) : Prop := ∀ (q : Nat) (cs : Array Value) (z : Nat × Nat), w.heap[q]? = some (.cells cs 9 z) → w'.heap[q]? = some (.cells cs 9 z)

theorem KeptT.refl (w : World) : KeptT w w := fun _ _ _ h => h
theorem KeptT.trans {w w1 w2 : World} (h : KeptT w w1) (k : KeptT w1 w2) : KeptT w w2 := fun q cs z e => k q cs z (h q cs z e)
theorem keptT_below {w w' : World} (h : Below w.heap.size w w') : KeptT w w' := fun q cs z e => (h.block q (Array.getElem?_eq_some_iff.1 e).1).trans e

theorem keptT_grown {w w' : World} {base n size : Nat} {e : TypeId} {v : Value} {xs : List Value} (h : w.grownBy w' v.ownBlock) (ho : w.ownsRow base e size v n xs) (hne : e ≠ 9) : KeptT w w' := by
  intro q cs z hq
  refine (h.block q (Array.getElem?_eq_some_iff.1 hq).1 (fun e1 => ?_)).trans hq
  rcases ho.2 with ⟨rfl, _⟩ | ⟨g, cap, cur, rfl, _, hg, _⟩
  · cases e1
  · obtain rfl : q = g := by simpa [Value.ownBlock] using e1
    rw [hq] at hg
    injection hg with hg
    injection hg with _ h2 _
    exact hne h2.symm

theorem OwnSt.keptT {w w' : World} {base n : Nat} {v : Value} {l : List ByteArray} (h : OwnSt w base v n l) (k : KeptT w w') : OwnSt w' base v n l := by
  refine ⟨⟨h.1.1, ?_⟩, h.2⟩
  rcases h.1.2 with h0 | ⟨g, cap, cur, he, hg, hh, r⟩
  · exact .inl h0
  · exact .inr ⟨g, cap, cur, he, hg, k g cur _ hh, r⟩

end Go.Proofs.YtogopmngbjkcjatDoor

namespace Go.Proofs.YtogopmngbjkcjatDoor
open Go.RowKit
set_option linter.unusedVariables false

def mbU (k : Nat) : Bool := decide (k % 3 = 0)

theorem mbU_is (k : Nat) : ((k : Int) % 3 == 0) = mbU k := by
  rw [Bool.eq_iff_iff, beq_iff_eq, mbU, decide_eq_true_eq]
  omega

/-- The marks of one upload, from k on. -/
def mkU1 (k : Nat) (e : UE) : UE := { e with u := ⟨mt k, (k : Int) + 1, marks (k + 2) e.n, mbU (k + 2 + e.n)⟩ }

/-- The marks of uploads, from k on. -/
def mkUp : Nat → List UE → List UE
  | _, [] => []
  | k, e :: l => mkU1 k e :: mkUp (k + 3 + e.n) l

/-- The number behind the marks. -/
def mkUEnd : Nat → List UE → Nat
  | k, [] => k
  | k, e :: l => mkUEnd (k + 3 + e.n) l

theorem mkUp_len (k : Nat) (l : List UE) : (mkUp k l).length = l.length := by
  induction l generalizing k with
  | nil => rfl
  | cons e l ih => simp [mkUp, ih]

theorem mkUp_append (k : Nat) (l m : List UE) : mkUp k (l ++ m) = mkUp k l ++ mkUp (mkUEnd k l) m := by
  induction l generalizing k with
  | nil => rfl
  | cons e l ih => simp [mkUp, mkUEnd, ih]

theorem mkUEnd_append (k : Nat) (l m : List UE) : mkUEnd k (l ++ m) = mkUEnd (mkUEnd k l) m := by
  induction l generalizing k with
  | nil => rfl
  | cons e l ih => simp [mkUEnd, ih]

theorem mkUEnd_ge (k : Nat) (l : List UE) : k ≤ mkUEnd k l := by
  induction l generalizing k with
  | nil => exact Nat.le_refl _
  | cons e l ih => have := ih (k + 3 + e.n); simp only [mkUEnd]; omega

theorem mkUEnd_le (k B : Nat) (l : List UE) (h : ∀ e ∈ l, e.n ≤ B) : mkUEnd k l ≤ k + (3 + B) * l.length := by
  induction l generalizing k with
  | nil => simp [mkUEnd]
  | cons e l ih =>
    have h1 := ih (k + 3 + e.n) (fun x hx => h x (List.mem_cons_of_mem _ hx))
    have h2 := h e (List.mem_cons_self ..)
    simp only [mkUEnd, List.length_cons, Nat.mul_add, Nat.mul_one]
    omega

theorem mark_intU (base : Nat) (a : Option Addr) (n cap k : Nat) (kk : Int) (zs : List Int) (w : World) (h : Owns w base a n cap zs) (hn : n ≤ 2199023255552) (hk : k ≤ 2199023255552) (hkk : kk = (k : Int)) :
    Calls Tryd.prog 38 #[.slice a n cap, .int .i64 kk] w fun e w' => e = .returned (.int .i64 ((k + n : Nat) : Int)) ∧ Owns w' base a n cap (marks k n) ∧ Only w w' a := by
  subst hkk
  exact mark_any base a n cap k zs w h hn hk

set_option maxRecDepth 10000 in
set_option maxHeartbeats 3200000 in
theorem markUpS_any (base : Nat) (a : Option Addr) (n cap k : Nat) (l : List UE) (w : World) (h : UpRow w base (.slice a n cap) l) (hn : l.length = n) (hk : mkUEnd k l ≤ 2199023255552) (hnb : n ≤ 1099511627776) (hi : Nat) (hwi : (∀ q, a.map (·.block) = some q → q < hi) ∧ ∀ e ∈ l, ∀ q, e.a.map (·.block) = some q → q < hi) :
    Calls Tryd.prog 18 #[.slice a n cap, .int .i64 (k : Int)] w fun e w' => e = .returned (.int .i64 (mkUEnd k l : Int)) ∧ UpRow w' base (.slice a n cap) (mkUp k l) ∧ Within w w' base hi ∧ KeptT w w' := by
  have HO : Hid (UpRow w base (.slice a n cap) l) := h
  have HN : Hid (l.length = n) := hn
  have HK : Hid (mkUEnd k l ≤ 2199023255552) := hk
  have HHi : Hid ((∀ q, a.map (·.block) = some q → q < hi) ∧ ∀ e ∈ l, ∀ q, e.a.map (·.block) = some q → q < hi) := hwi
  clear h hn hk hwi
  go_enter Tryd.func18, Tryd.ntmps18
  go_wp2
  go_loopw [1, 5] (fun v i wr => ∃ j : Nat, j ≤ n ∧ i = .int .i64 j ∧ v = .int .i64 (mkUEnd k (l.take j) : Int) ∧ Hid (UpRow wr base (.slice a n cap) (mkUp k (l.take j) ++ l.drop j)) ∧ Hid (Within w wr base hi) ∧ Hid (KeptT w wr)) (fun _ i _ => n - (intOf i).toNat)
  case atStart => exact ⟨0, Nat.zero_le _, rfl, rfl, HO, Within.refl _ _ _, KeptT.refl _⟩
  case round =>
    clear HO
    obtain ⟨j, hj, rfl, rfl, HO, HB, HKt⟩ := hrel
    by_cases hlt : j < n
    · have hjl : j < l.length := by have := HN.out; omega
      have hd : l.drop j = l[j] :: l.drop (j + 1) := List.drop_eq_getElem_cons hjl
      have ht : l.take (j + 1) = l.take j ++ [l[j]] := List.take_succ_eq_append_getElem hjl
      have hml : (mkUp k (l.take j)).length = j := by rw [mkUp_len, List.length_take]; omega
      have HEnd : Hid (mkUEnd k (l.take (j + 1)) = mkUEnd k (l.take j) + 3 + (l[j]).n) := by show _ = _; rw [ht, mkUEnd_append]; rfl
      have HFr : Hid (mkUp k (l.take (j + 1)) = mkUp k (l.take j) ++ [mkU1 (mkUEnd k (l.take j)) (l[j])]) := by show _ = _; rw [ht, mkUp_append]; rfl
      have hKb : mkUEnd k (l.take j) + 3 + (l[j]).n ≤ 2199023255552 := by
        have h1 := HK.out
        rw [← List.take_append_drop (j + 1) l, mkUEnd_append] at h1
        have h2 := mkUEnd_ge (mkUEnd k (l.take (j + 1))) (l.drop (j + 1))
        have h3 := HEnd.out
        omega
      have hO := HO.out
      rw [hd] at hO
      have hlen : (mkUp k (l.take j) ++ l[j] :: l.drop (j + 1)).length = n := by rw [List.length_append, hml, List.length_cons, List.length_drop]; have := HN.out; omega
      have hat := hO.at hlen.symm (i := j) (by omega)
      rw [show (mkUp k (l.take j) ++ l[j] :: l.drop (j + 1))[j]'(by omega) = l[j] by rw [List.getElem_append_right (by omega)]; simp [hml]] at hat
      obtain ⟨g, rfl, c0, c1, c2, c3, _⟩ := hat
      have hge := hO.1.lt g rfl
      have hgh : g < hi := HHi.out.1 g rfl
      have HEh : Hid (∀ q, (l[j]).a.map (·.block) = some q → q < hi) := HHi.out.2 _ (List.getElem_mem hjl)
      clear hd ht c0 c1 c2 c3
      generalize mkUp k (l.take j) = M at *
      generalize mkUEnd k (l.take j) = K at *
      obtain ⟨D, hD⟩ : ∃ D, l.drop (j + 1) = D := ⟨_, rfl⟩
      have HD : Hid (l.drop (j + 1) = D) := hD
      rw [hD] at hO hlen
      clear hD
      have HO1 : Hid (UpRow wr base (.slice (some ⟨g, 0, none⟩) n cap) (M ++ l[j] :: D)) := hO
      clear hO HO
      generalize l[j] = e at *
      obtain ⟨⟨eid, ew, ez, ed⟩, ea, en, ec⟩ := e
      dsimp only at *
      have HFr : Hid (mkUp k (l.take (j + 1)) = M ++ [⟨⟨mt K, (K : Int) + 1, marks (K + 2) en, mbU (K + 2 + en)⟩, ea, en, ec⟩]) := HFr.out
      have hKi : (K : Int) ≤ 2199023255552 := by omega
      have hji : (j : Int) < (n : Int) := by omega
      have hlx : ∀ x : UE, (M ++ x :: D).length = n := fun x => by rw [← hlen]; simp
      go_wp2_with fail
      refine (markText_any K _ (by omega)).mono ?_
      rintro _ x1 ⟨rfl, hb1⟩
      have hR1 := HO1.out.stays hb1
      have hG1 : wr.grownBy x1 (some g) := ⟨hb1.os, hb1.tape, hb1.output, hb1.size, fun i hi _ => hb1.block i hi⟩
      have hnm := hR1.numbers (hlx _) (mt K) ((K : Int) + 1)
      have hKt2 : KeptT w ((x1.setCell ⟨g, M.length * 4, none⟩ (.string (mt K))).setCell ⟨g, M.length * 4 + 1, none⟩ (.int .i64 ((K : Int) + 1))) := (HKt.out.trans (keptT_below hb1)).trans (keptT_grown (v := .slice (some ⟨g, 0, none⟩) n cap) hnm.2 hR1.1 (by decide))
      rw [hml] at hKt2
      have HKt2 : Hid (KeptT w ((x1.setCell ⟨g, j * 4, none⟩ (.string (mt K))).setCell ⟨g, j * 4 + 1, none⟩ (.int .i64 ((K : Int) + 1)))) := hKt2
      clear hKt2 HKt
      rw [hml] at hnm
      dsimp only at hnm
      have hat := hR1.at (hlx _).symm (i := j) (by have := hlx ⟨⟨eid, ew, ez, ed⟩, ea, en, ec⟩; omega)
      rw [show (M ++ (⟨⟨eid, ew, ez, ed⟩, ea, en, ec⟩ : UE) :: D)[j]'(by have := hlx ⟨⟨eid, ew, ez, ed⟩, ea, en, ec⟩; omega) = ⟨⟨eid, ew, ez, ed⟩, ea, en, ec⟩ by rw [List.getElem_append_right (by omega)]; simp [hml]] at hat
      obtain ⟨g', hgg, d0, d1, d2, d3, hfr⟩ := hat
      obtain rfl : g = g' := by simpa using hgg
      have h0 := hfr (j * 4)
      have h1 := hfr (j * 4 + 1)
      dsimp only at d0 d1 d2 d3
      have HR2 : Hid (UpRow ((x1.setCell ⟨g, j * 4, none⟩ (.string (mt K))).setCell ⟨g, j * 4 + 1, none⟩ (.int .i64 ((K : Int) + 1))) base (.slice (some ⟨g, 0, none⟩) n cap) (M ++ ⟨⟨mt K, (K : Int) + 1, ez, ed⟩, ea, en, ec⟩ :: D)) := hnm.1
      have HG2 : Hid (wr.grownBy ((x1.setCell ⟨g, j * 4, none⟩ (.string (mt K))).setCell ⟨g, j * 4 + 1, none⟩ (.int .i64 ((K : Int) + 1))) (some g)) := grow_transU hG1 hnm.2
      have HE : Hid (Owns ((x1.setCell ⟨g, j * 4, none⟩ (.string (mt K))).setCell ⟨g, j * 4 + 1, none⟩ (.int .i64 ((K : Int) + 1))) base ea en ec ez) := hnm.1.2.1 ⟨⟨mt K, (K : Int) + 1, ez, ed⟩, ea, en, ec⟩ (List.mem_append_right _ (List.mem_cons_self ..))
      clear hnm hR1 hG1 hb1 hfr hgg HO1
      generalize mt K = T3 at *
      go_wp2_with fail
      refine (mark_intU base ea en ec (K + 2) _ ez _ HE.out (by omega) (by omega) (by omega)).mono ?_
      rintro _ x4 ⟨rfl, hm, hon⟩
      have hO4 : UpRow x4 base (.slice (some ⟨g, 0, none⟩) n cap) (M ++ ⟨⟨T3, (K : Int) + 1, marks (K + 2) en, ed⟩, ea, en, ec⟩ :: D) := HR2.out.bodied (marks (K + 2) en) hm hon
      have hdn := hO4.doned (hlx _) (mbU (K + 2 + en))
      have hKt4 : KeptT w x4 := HKt2.out.trans (keptT_grown (v := .slice ea en ec) (by rw [ownBlock_sU]; exact hon) HE.out.1 (by decide))
      have hKt5 : KeptT w (x4.setCell ⟨g, M.length * 4 + 3, none⟩ (.bool (mbU (K + 2 + en)))) := hKt4.trans (keptT_grown (v := .slice (some ⟨g, 0, none⟩) n cap) hdn.2 hO4.1 (by decide))
      rw [hml] at hKt5
      have HKt5 : Hid (KeptT w (x4.setCell ⟨g, j * 4 + 3, none⟩ (.bool (mbU (K + 2 + en))))) := hKt5
      clear hKt4 hKt5 HKt2
      rw [hml] at hdn
      dsimp only at hdn
      have HB4 : Hid (Within w x4 base hi) := by
        have h1 := HB.out.trans (within_grown HG2.out (fun q e => by injection e with e; omega))
        exact h1.trans (within_grown hon (fun q e => ⟨(HE.out.lt q e).1, HEh.out q e⟩))
      have hat := hO4.at (hlx _).symm (i := j) (by have := hlx ⟨⟨T3, (K : Int) + 1, marks (K + 2) en, ed⟩, ea, en, ec⟩; omega)
      obtain ⟨g', hgg, _, _, _, q3, hfr⟩ := hat
      obtain rfl : g = g' := by simpa using hgg
      have z3 := hfr (j * 4 + 3)
      have HO5 : Hid (UpRow (x4.setCell ⟨g, j * 4 + 3, none⟩ (.bool (mbU (K + 2 + en)))) base (.slice (some ⟨g, 0, none⟩) n cap) (M ++ ⟨⟨T3, (K : Int) + 1, marks (K + 2) en, mbU (K + 2 + en)⟩, ea, en, ec⟩ :: D)) := hdn.1
      have HB5 : Hid (Within w (x4.setCell ⟨g, j * 4 + 3, none⟩ (.bool (mbU (K + 2 + en)))) base hi) := HB4.out.trans (within_grown hdn.2 (fun q e => by injection e with e; omega))
      clear hm hon HE HR2 HG2 HB HB4 d0 d1 d2 d3 h0 h1 hO4 hdn hfr hgg
      obtain ⟨K4, hK4⟩ : ∃ K4, K + 2 + en = K4 := ⟨_, rfl⟩
      have HK4 : Hid (K + 2 + en = K4) := hK4
      rw [hK4] at HO5 HB5 HKt5 ⊢
      have HFr2 : Hid (mkUp k (l.take (j + 1)) = M ++ [⟨⟨T3, (K : Int) + 1, marks (K + 2) en, mbU K4⟩, ea, en, ec⟩]) := by show _ = _; rw [HFr.out, hK4]
      have hmb := mbU_is K4
      have hK4i : (K4 : Int) ≤ 2199023255552 := by omega
      clear hK4 HFr
      go_wp2
      go_roundw
      case rel =>
        refine ⟨j + 1, by omega, by go_num, ?_, ?_, HB5, HKt5⟩
        · rw [HEnd.out]
          have := HK4.out
          go_num
        · show UpRow _ _ _ _
          rw [HFr2.out, List.append_assoc, HD.out]
          exact HO5.out
      case measure => simp [intOf]; omega
    · have hjn : j = n := by omega
      subst hjn
      have hl := HN.out
      have HO2 : Hid (UpRow wr base (.slice a j cap) (mkUp k l)) := by
        have h := HO.out
        rw [List.take_of_length_le (by omega), List.drop_of_length_le (by omega), List.append_nil] at h
        exact h
      have HE : Hid (mkUEnd k (l.take j) = mkUEnd k l) := by show _ = _; rw [List.take_of_length_le (by omega)]
      generalize mkUEnd k (l.take j) = K at *
      go_wp2
      go_ret
      exact ⟨ret_int (by rw [HE.out]), HO2.out, HB.out, HKt.out⟩

end Go.Proofs.YtogopmngbjkcjatDoor
