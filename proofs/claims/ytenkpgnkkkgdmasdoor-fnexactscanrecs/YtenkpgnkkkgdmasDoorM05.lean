/- A variable of two cells: no program in it. Rows of texts and the block that they lie in. No program in it but its table of types. The mark of a number as a text. Marks laid on a row of texts. The marks laid into a disk. -/
import Derived.Test.YtenkpgnkkkgdmasDoorM01
import Derived.Test.YtenkpgnkkkgdmasDoorM04
import Derived.Laws.IdiomStrings
import Derived.Laws.BytesArg
import Derived.Deep.QuietTactic
import Derived.BigQuiet
namespace Go.Proofs.YtenkpgnkkkgdmasDoor
open Go.RowKit
set_option linter.unusedVariables false

/-- The block holds a variable of two cells. -/
def Box2R (W : World) (b : Nat) (t : TypeId) (x y : Value) : Prop := W.heap[b]? = some (.cells #[x, y] t (0, 0))

theorem Box2R.lt {W : World} {b : Nat} {t : TypeId} {x y : Value} (h : Box2R W b t x y) : b < W.heap.size := (Array.getElem?_eq_some_iff.1 h).1

theorem Box2R.stays {W W' : World} {b : Nat} {t : TypeId} {x y : Value} (h : Box2R W b t x y) (hb : Below W.heap.size W W') : Box2R W' b t x y := (hb.block b h.lt).trans h

theorem Box2R.alloc {W : World} {b : Nat} {t : TypeId} {x y : Value} (h : Box2R W b t x y) (o : Obj) : Box2R (W.alloc o) b t x y := h.stays ((Below.refl _ _).alloc (Nat.le_refl _) _)

theorem Box2R.new (W : World) (t : TypeId) (x y : Value) : Box2R (W.alloc (.cells #[x, y] t)) W.heap.size t x y := heap_alloc_new W _

theorem Box2R.cells {W : World} {b : Nat} {t : TypeId} {x y : Value} (h : Box2R W b t x y) : W.cell? ⟨b, 0, none⟩ = some x ∧ W.cell? ⟨b, 1, none⟩ = some y := by
  have h' : W.heap[b]? = some (.cells #[x, y] t (0, 0)) := h
  exact ⟨by rw [cell_of_row _ _ _ _ _ _ h']; rfl, by rw [cell_of_row _ _ _ _ _ _ h']; rfl⟩

theorem Box2R.frozen {W : World} {b : Nat} {t : TypeId} {x y : Value} (h : Box2R W b t x y) (i : Nat) : W.frozen? ⟨b, i, none⟩ = false := by simp [World.frozen?, show W.heap[b]? = _ from h]

theorem Box2R.grown {W W' : World} {b : Nat} {t : TypeId} {x y : Value} {r : Option Nat} (h : Box2R W b t x y) (hg : W.grownBy W' r) (hr : r ≠ some b) : Box2R W' b t x y := (hg.block b h.lt (Ne.symm hr)).trans h

theorem Box2R.set0 {W : World} {b : Nat} {t : TypeId} {x y : Value} (h : Box2R W b t x y) (v : Value) : Box2R (W.setCell ⟨b, 0, none⟩ v) b t v y := by
  show (W.setCell ⟨b, 0, none⟩ v).heap[b]? = _
  rw [setCell_eq_setRow W b 0 _ t (0, 0) _ h, setRow_heap W b _ _ t (0, 0) h]
  rfl

theorem Box2R.set1 {W : World} {b : Nat} {t : TypeId} {x y : Value} (h : Box2R W b t x y) (v : Value) : Box2R (W.setCell ⟨b, 1, none⟩ v) b t x v := by
  show (W.setCell ⟨b, 1, none⟩ v).heap[b]? = _
  rw [setCell_eq_setRow W b 1 _ t (0, 0) _ h, setRow_heap W b _ _ t (0, 0) h]
  rfl

theorem Box2R.other {W : World} {b b' k : Nat} {t : TypeId} {x y : Value} (h : Box2R W b t x y) (hne : b ≠ b') (v : Value) : Box2R (W.setCell ⟨b', k, none⟩ v) b t x y := (set_block_ne W b b' k v hne).trans h

end Go.Proofs.YtenkpgnkkkgdmasDoor

namespace Go.Proofs.YtenkpgnkkkgdmasDoor
open Go.RowKit
set_option linter.unusedVariables false

/-- What lies behind a slice value, if it has a block. -/
def blkOf : Value → Option Nat
  | .slice (some p) _ _ => some p.block
  | _ => none

theorem OwnSt.low {w : World} {base lo n : Nat} {v : Value} {l : List ByteArray} (h : OwnSt w base v n l) (hl : lo ≤ base) : OwnSt w lo v n l := by
  refine ⟨⟨h.1.1, ?_⟩, h.2⟩
  rcases h.1.2 with h0 | ⟨g, cap, cur, he, hg, r⟩
  · exact .inl h0
  · exact .inr ⟨g, cap, cur, he, Nat.le_trans hl hg, r⟩

theorem OwnSt.lt {w : World} {base n : Nat} {v : Value} {l : List ByteArray} (h : OwnSt w base v n l) : ∀ q, blkOf v = some q → base ≤ q ∧ q < w.heap.size := by
  intro q hq
  rcases h.1.2 with ⟨rfl, _⟩ | ⟨g, cap, cur, rfl, hg, hh, _⟩
  · simp [blkOf] at hq
  · obtain rfl : g = q := by simpa [blkOf] using hq
    exact ⟨hg, (Array.getElem?_eq_some_iff.1 hh).1⟩

theorem OwnSt.kept {w w' : World} {base n : Nat} {v : Value} {l : List ByteArray} {r : Option Nat} (h : OwnSt w base v n l) (hg : w.grownBy w' r) (hr : ∀ q, r = some q → blkOf v ≠ some q) : OwnSt w' base v n l := by
  refine h.grown hg fun q hq p m c hv hne => hr q hq ?_
  rw [hv, ← hne]
  rfl

theorem OwnSt.setCell {w : World} {base n : Nat} {v : Value} {l : List ByteArray} (h : OwnSt w base v n l) {b k : Nat} (hb : blkOf v ≠ some b) (u : Value) : OwnSt (w.setCell ⟨b, k, none⟩ u) base v n l := by
  refine ⟨⟨h.1.1, ?_⟩, h.2⟩
  rcases h.1.2 with h0 | ⟨g, cap, cur, rfl, hg, hh, r⟩
  · exact .inl h0
  · exact .inr ⟨g, cap, cur, rfl, hg, (set_block_ne w g b k u (fun e => hb (by rw [blkOf, e]))).trans hh, r⟩

end Go.Proofs.YtenkpgnkkkgdmasDoor

namespace Go.Proofs.YtenkpgnkkkgdmasDoor
open Go.RowKit
set_option linter.unusedVariables false

theorem own_stays {w w' : World} {base size n : Nat} {v : Value} {e : TypeId} {xs : List Value} (h : w.ownsRow base e size v n xs) (hb : Below w.heap.size w w') : w'.ownsRow base e size v n xs := by
  refine ⟨h.1, ?_⟩
  rcases h.2 with h0 | ⟨g, cap, cur, he, hg, hh, r⟩
  · exact .inl h0
  · exact .inr ⟨g, cap, cur, he, hg, (hb.block g (Array.getElem?_eq_some_iff.1 hh).1).trans hh, r⟩

/-- 'string([]byte{c})'. -/
theorem convm_one (c : Nat) (hc : c < 256) (W : World) (g : Nat) (h : W.cell? ⟨g, 0, none⟩ = some (.int .u8 (c : Int))) :
    (convert 22 9 (.slice (some ⟨g, 0, none⟩) 1 1)).run Tryd.prog W = .ok (.string ⟨#[UInt8.ofNat c]⟩) W := by
  refine run_convert_bytes_back W 22 9 5 ⟨g, 0, none⟩ 1 [UInt8.ofNat c] Tryd.underlying22 Tryd.underlying5 Tryd.underlying9 (fun j hj => ?_)
  obtain rfl : j = 0 := by simpa using hj
  have e : (UInt8.ofNat c).toNat = c := by simp; omega
  simpa [Addr.add, Nat.mod_eq_of_lt hc] using h

/-- The digits of k ahead of a text. -/
def mtGo (k : Nat) (out : ByteArray) : ByteArray := if k = 0 then out else mtGo (k / 10) (⟨#[UInt8.ofNat (48 + k % 10)]⟩ ++ out)
termination_by k
decreasing_by omega

/-- The mark of the number k. -/
def mt (k : Nat) : ByteArray := if k = 0 then ⟨#[109, 48]⟩ else ⟨#[109]⟩ ++ mtGo k ⟨#[]⟩

set_option maxRecDepth 10000 in
set_option maxHeartbeats 800000 in
theorem markText_any (k : Nat) (w : World) (hk : k ≤ 4398046511104) : Calls Tryd.prog 46 #[.int .i64 (k : Int)] w fun e w' => e = .returned (.string (mt k)) ∧ Below w.heap.size w w' := by
  by_cases h0 : k = 0
  · subst h0
    go_enter Tryd.func46, Tryd.ntmps46
    go_wp2
    go_ret
    exact ⟨rfl, Below.refl _ _⟩
  · have e : mt k = ⟨#[109]⟩ ++ mtGo k ⟨#[]⟩ := by rw [mt, if_neg h0]
    rw [e]
    have hki : ¬ (k : Int) ≤ 0 := by omega
    have hkd : decide ((k : Int) ≤ 0) = false := by simp; omega
    generalize hT : mtGo k ⟨#[]⟩ = T
    have HT : Hid (mtGo k ⟨#[]⟩ = T) := hT
    clear hT e
    go_enter Tryd.func46, Tryd.ntmps46
    go_wp2_with fail
    go_loopw [0, 3] (fun n o wr => ∃ (j : Nat) (u : ByteArray), j + u.size ≤ k ∧ n = .int .i64 (j : Int) ∧ o = .string u ∧ Hid (mtGo j u = T) ∧ Hid (Below w.heap.size w wr)) (fun n _ _ => (intOf n).toNat)
    case atStart => exact ⟨k, ⟨#[]⟩, Nat.le_refl _, rfl, rfl, HT, Below.refl _ _⟩
    case round =>
      clear HT
      obtain ⟨j, u, hj, rfl, rfl, HT, HB⟩ := hrel
      by_cases hj0 : j = 0
      · subst hj0
        have hTu : u = T := by
          have := HT.out
          rw [mtGo, if_pos rfl] at this
          exact this
        subst hTu
        go_wp2_with fail
        go_ret
        exact ⟨rfl, HB.out⟩
      · have hj1 : (0 : Int) < (j : Int) := by omega
        have HT2 : Hid (mtGo (j / 10) (⟨#[UInt8.ofNat (48 + j % 10)]⟩ ++ u) = T) := by
          show _ = _
          have := HT.out
          rw [mtGo, if_neg hj0] at this
          exact this
        have hjb : (j : Int) ≤ 4398046511104 := by omega
        have hcv : ∀ (W : World) (g : Nat), W.cell? ⟨g, 0, none⟩ = some (.int .u8 (48 + (j : Int) % 10)) → (convert 22 9 (.slice (some ⟨g, 0, none⟩) 1 1)).run Tryd.prog W = .ok (.string ⟨#[UInt8.ofNat (48 + j % 10)]⟩) W := fun W g hW => convm_one (48 + j % 10) (by omega) W g (by rw [hW]; congr 2)
        have hsz : (⟨#[UInt8.ofNat (48 + j % 10)]⟩ ++ u : ByteArray).size = 1 + u.size := by rw [ByteArray.size_append]; rfl
        have hXs : (⟨#[UInt8.ofNat (48 + j % 10)]⟩ : ByteArray).size = 1 := rfl
        generalize hX : (⟨#[UInt8.ofNat (48 + j % 10)]⟩ : ByteArray) = X at *
        clear hX
        have hus : X.size + u.size ≤ 4398046511105 := by omega
        have HSz : Hid ((X ++ u).size = 1 + u.size) := hsz
        clear hsz
        go_wp2_with fail
        go_roundw
        case rel =>
          refine ⟨j / 10, X ++ u, by rw [HSz.out]; omega, by congr 1, rfl, HT2, ?_⟩
          exact HB.out.alloc HB.out.size _
        case measure => simp [intOf]; omega

theorem mtGo_size (k : Nat) : ∀ u : ByteArray, (mtGo k u).size ≤ k + u.size := by
  induction k using Nat.strongRecOn with
  | _ k ih =>
    intro u
    rw [mtGo]
    split
    · omega
    · have := ih (k / 10) (by omega) (⟨#[UInt8.ofNat (48 + k % 10)]⟩ ++ u)
      rw [ByteArray.size_append] at this
      have e : (⟨#[UInt8.ofNat (48 + k % 10)]⟩ : ByteArray).size = 1 := rfl
      omega

theorem mt_size (k : Nat) : (mt k).size ≤ k + 2 := by
  unfold mt
  split
  · have e : (⟨#[109, 48]⟩ : ByteArray).size = 2 := rfl
    omega
  · have := mtGo_size k ⟨#[]⟩
    rw [ByteArray.size_append]
    have e : (⟨#[109]⟩ : ByteArray).size = 1 := rfl
    have e2 : (⟨#[]⟩ : ByteArray).size = 0 := rfl
    omega

theorem grown_refl (w : World) (r : Option Nat) : w.grownBy w r := ⟨rfl, rfl, rfl, Nat.le_refl _, fun _ _ _ => rfl⟩
theorem grown_trans {a b c : World} {r : Option Nat} (h : a.grownBy b r) (g : b.grownBy c r) : a.grownBy c r :=
  ⟨g.os.trans h.os, g.tape.trans h.tape, g.output.trans h.output, Nat.le_trans h.size g.size, fun k hk hr => (g.block k (Nat.lt_of_lt_of_le hk h.size) hr).trans (h.block k hk hr)⟩
theorem grown_below {a b : World} {r : Option Nat} (h : Below a.heap.size a b) : a.grownBy b r := ⟨h.os, h.tape, h.output, h.size, fun k hk _ => h.block k hk⟩

end Go.Proofs.YtenkpgnkkkgdmasDoor

namespace Go.Proofs.YtenkpgnkkkgdmasDoor
open Go.RowKit
set_option linter.unusedVariables false

/-- The marks of n texts, from the number k on. -/
def marksS (k n : Nat) : List ByteArray := (List.range n).map fun j => mt (k + j)
theorem marksS_len (k n : Nat) : (marksS k n).length = n := by simp [marksS]
theorem marksS_at (k n j : Nat) (hj : j < n) : (marksS k n)[j]? = some (mt (k + j)) := by simp [marksS, hj]

/-- Texts of which the first j are marked. -/
def smarkTo (k : Nat) (xs : List ByteArray) (j : Nat) : List ByteArray := marksS k j ++ xs.drop j

theorem smarkTo_len (k : Nat) (xs : List ByteArray) (j : Nat) (h : j ≤ xs.length) : (smarkTo k xs j).length = xs.length := by
  simp [smarkTo, marksS_len]
  omega

theorem smarkTo_step (k : Nat) (xs : List ByteArray) (j : Nat) (h : j < xs.length) : (smarkTo k xs j).set j (mt (k + j)) = smarkTo k xs (j + 1) := by
  rw [smarkTo, smarkTo, List.set_append_right j _ (by rw [marksS_len]; exact Nat.le_refl _), marksS_len, Nat.sub_self, List.drop_eq_getElem_cons h, List.set_cons_zero]
  simp [marksS, List.range_succ]

set_option maxRecDepth 10000 in
set_option maxHeartbeats 1600000 in
theorem markStrS_any (base : Nat) (a : Option Addr) (n cap k : Nat) (xs : List ByteArray) (w : World) (h : OwnSt w base (.slice a n cap) n xs) (hn : n ≤ 1099511627776) (hk : k ≤ 1099511627776) :
    Calls Tryd.prog 45 #[.slice a n cap, .int .i64 (k : Int)] w fun e w' => e = .returned (.int .i64 ((k + n : Nat) : Int)) ∧ OwnSt w' base (.slice a n cap) n (marksS k n) ∧ w.grownBy w' (a.map (·.block)) := by
  have hlen := h.len
  have HO0 : Hid (w.ownsRow base 9 1 (.slice a n cap) n (scells (smarkTo k xs 0))) := h.1
  clear h
  go_enter Tryd.func45, Tryd.ntmps45
  go_wp2_with fail
  go_loopw [1, 5] (fun q i wr => ∃ j : Nat, j ≤ n ∧ i = .int .i64 j ∧ q = .int .i64 ((k + j : Nat) : Int) ∧ Hid (wr.ownsRow base 9 1 (.slice a n cap) n (scells (smarkTo k xs j))) ∧ Hid (w.grownBy wr (a.map (·.block)))) (fun _ i _ => n - (intOf i).toNat)
  case atStart => exact ⟨0, Nat.zero_le _, rfl, rfl, HO0, grown_refl _ _⟩
  case round =>
    clear HO0
    obtain ⟨j, hj, rfl, rfl, HO, HG⟩ := hrel
    by_cases hlt : j < n
    · obtain ⟨g, rfl⟩ : ∃ g, a = some ⟨g, 0, none⟩ := by
        rcases HO.out.2 with ⟨_, h0⟩ | ⟨g, cap', cur, he, _⟩
        · omega
        · injection he with e1 _ _
          exact ⟨g, e1⟩
      have hji : (j : Int) < (n : Int) := by omega
      have HM1 : Hid (∀ W, Calls Tryd.prog 46 #[.int .i64 ((k + j : Nat) : Int)] W fun e w' => e = .returned (.string (mt (k + j))) ∧ Below W.heap.size W w') := fun W => markText_any _ W (by omega)
      have HSt : Hid ((smarkTo k xs j).set j (mt (k + j)) = smarkTo k xs (j + 1)) := smarkTo_step k xs j (by omega)
      have HLn : Hid ((smarkTo k xs j).length = n) := by show _ = _; rw [smarkTo_len k xs j (by omega), hlen]
      generalize mt (k + j) = m1 at *
      generalize smarkTo k xs j = L at *
      obtain ⟨K1, hK1⟩ : ∃ K1, k + (j + 1) = K1 := ⟨_, rfl⟩
      obtain ⟨K0, hK0⟩ : ∃ K0, k + j = K0 := ⟨_, rfl⟩
      have hq1 : (K0 : Int) + 1 = (K1 : Int) := by omega
      rw [hK0] at HM1 ⊢
      have HK1 : Hid (k + (j + 1) = K1) := hK1
      have hK0b : (K0 : Int) ≤ 4398046511104 := by omega
      clear hK0 hK1
      go_wp2_with fail
      refine (HM1.out wr).mono ?_
      rintro e x1 ⟨rfl, hb1⟩
      have HO1 : Hid (x1.ownsRow base 9 1 (.slice (some ⟨g, 0, none⟩) n cap) n (scells L)) := own_stays HO.out hb1
      have HG1 : Hid (w.grownBy x1 (some g)) := grown_trans HG.out (grown_below hb1)
      clear hb1 HO HG
      have hln : (scells L).length = n := by rw [scells_len, HLn.out]
      have f0 : x1.frozen? ⟨g, j, none⟩ = false := HO1.out.frozenAt _
      obtain ⟨u0, hu0⟩ : ∃ u, x1.cell? ⟨g, j, none⟩ = some u := by
        rw [HO1.out.cellAt _ (by omega)]
        exact ⟨_, List.getElem?_eq_getElem (by omega)⟩
      have hst := HO1.out.stored j (.string m1)
      have HO4 : Hid ((x1.setCell ⟨g, j, none⟩ (.string m1)).ownsRow base 9 1 (.slice (some ⟨g, 0, none⟩) n cap) n (scells (smarkTo k xs (j + 1)))) := by
        have h1 := hst.1
        rw [scells_set, HSt.out] at h1
        exact h1
      have HG4 : Hid (w.grownBy (x1.setCell ⟨g, j, none⟩ (.string m1)) (some g)) := grown_trans HG1.out hst.2
      clear hst hln HO1 HG1
      go_wp2_with fail
      go_roundw
      case rel => exact ⟨j + 1, by omega, by go_num, by rw [HK1.out], HO4, HG4⟩
      case measure => simp [intOf]; omega
    · have hjn : j = n := by omega
      subst hjn
      go_wp2_with fail
      go_ret
      have hd : smarkTo k xs j = marksS k j := by
        rw [smarkTo, List.drop_eq_nil_of_le (by omega), List.append_nil]
      have h1 := HO.out
      rw [hd] at h1
      refine ⟨rfl, ⟨h1, ?_⟩, HG.out⟩
      intro f hf
      simp only [marksS, List.mem_map, List.mem_range] at hf
      obtain ⟨i, hi, rfl⟩ := hf
      have s1 := mt_size (k + i)
      unfold maxLen
      omega

end Go.Proofs.YtenkpgnkkkgdmasDoor

namespace Go.Proofs.YtenkpgnkkkgdmasDoor
open Go.RowKit
set_option linter.unusedVariables false

theorem blkOf_slice (a : Option Addr) (n c : Nat) : blkOf (.slice a n c) = a.map (·.block) := by cases a <;> rfl

theorem ret_i64 {a b : Int} (h : a = b) : Ending.returned (.int .i64 a) = .returned (.int .i64 b) := by rw [h]

/-- Of all that was there two blocks alone may have changed. -/
def Two (w w' : World) (r r' : Option Nat) : Prop := ∃ w1, w.grownBy w1 r ∧ w1.grownBy w' r'

set_option maxHeartbeats 800000 in
theorem markDisk_any (base : Nat) (a : Option Addr) (n ca : Nat) (xs : List ByteArray) (a' : Option Addr) (n' ca' : Nat) (ys : List ByteArray) (k : Nat) (w : World) (h1 : OwnSt w base (.slice a n ca) n xs) (h2 : OwnSt w base (.slice a' n' ca') n' ys) (hne : ∀ q, a.map (·.block) = some q → a'.map (·.block) ≠ some q) (hn : n ≤ 1073741824) (hn' : n' ≤ 1073741824) (hk : k ≤ 1073741824) :
    Calls Tryd.prog 24 #[.agg #[.slice a n ca, .slice a' n' ca'], .int .i64 (k : Int)] w fun r w' => r = .returned (.int .i64 ((k + n + n' : Nat) : Int)) ∧ OwnSt w' base (.slice a n ca) n (marksS k n) ∧ OwnSt w' base (.slice a' n' ca') n' (marksS (k + n) n') ∧ Two w w' (a.map (·.block)) (a'.map (·.block)) := by
  have HO : Hid (OwnSt w base (.slice a n ca) n xs) := h1
  have HP : Hid (OwnSt w base (.slice a' n' ca') n' ys) := h2
  have HN : Hid (∀ q, a.map (·.block) = some q → a'.map (·.block) ≠ some q) := hne
  clear h1 h2 hne
  have HA : Hid (Box2R (w.alloc (Obj.cells #[Value.slice a n ca, Value.slice a' n' ca'] 42)) w.heap.size 42 (.slice a n ca) (.slice a' n' ca')) := Box2R.new _ _ _ _
  have HB : Hid (Below w.heap.size w (w.alloc (Obj.cells #[Value.slice a n ca, Value.slice a' n' ca'] 42))) := (Below.refl _ _).alloc (Nat.le_refl _) _
  go_enter Tryd.func24, Tryd.ntmps24
  go_wp2_with fail
  refine (markStrS_any base a n ca k xs _ (HO.out.below HB.out) (by omega) (by omega)).mono ?_
  rintro r x1 ⟨rfl, ho1, hg1⟩
  have hlt : ∀ q, a.map (·.block) = some q → q < w.heap.size := fun q hq => (HO.out.lt q (by rw [blkOf_slice]; exact hq)).2
  have HO1 : Hid (OwnSt x1 base (.slice a n ca) n (marksS k n)) := ho1
  have HP1 : Hid (OwnSt x1 base (.slice a' n' ca') n' ys) := (HP.out.below HB.out).kept hg1 (fun q hq => by rw [blkOf_slice]; exact HN.out q hq)
  have HG1 : Hid (w.grownBy x1 (a.map (·.block))) := grown_trans (grown_below HB.out) hg1
  have HA1 : Hid (Box2R x1 w.heap.size 42 (.slice a n ca) (.slice a' n' ca')) := HA.out.grown hg1 (fun e => by have := hlt _ e; omega)
  clear ho1 hg1 hlt HA HB HO HP
  obtain ⟨c0, c1⟩ := HA1.out.cells
  have HM : Hid (Calls Tryd.prog 45 #[.slice a' n' ca', .int .i64 ((k + n : Nat) : Int)] x1 fun e w' => e = .returned (.int .i64 ((k + n + n' : Nat) : Int)) ∧ OwnSt w' base (.slice a' n' ca') n' (marksS (k + n) n') ∧ x1.grownBy w' (a'.map (·.block))) := markStrS_any base a' n' ca' (k + n) ys _ HP1.out (by omega) (by omega)
  obtain ⟨K, hK⟩ : ∃ K, k + n = K := ⟨_, rfl⟩
  rw [hK] at HM ⊢
  have hKb : K ≤ 2147483648 := by omega
  have HK : Hid (k + n = K) := hK
  clear hK
  go_wp2_with fail
  refine HM.out.mono ?_
  rintro r x2 ⟨rfl, ho2, hg2⟩
  have HP2 : Hid (OwnSt x2 base (.slice a' n' ca') n' (marksS K n')) := ho2
  have HO2 : Hid (OwnSt x2 base (.slice a n ca) n (marksS k n)) := HO1.out.kept hg2 (fun q hq e => HN.out q (by rw [blkOf_slice] at e; exact e) hq)
  have HG2 : Hid (Two w x2 (a.map (·.block)) (a'.map (·.block))) := ⟨x1, HG1.out, hg2⟩
  clear ho2 hg2 HM HA1 c0 c1
  obtain ⟨K2, hK2⟩ : ∃ K2, K + n' = K2 := ⟨_, rfl⟩
  have HK2 : Hid (K + n' = K2) := hK2
  rw [hK2]
  clear hK2
  go_wp2_with fail
  go_ret
  exact ⟨ret_i64 (by rw [HK.out, HK2.out]), HO2.out, by rw [HK.out]; exact HP2.out, HG2.out⟩

end Go.Proofs.YtenkpgnkkkgdmasDoor
