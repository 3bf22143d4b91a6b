/- What PutFields answers, and what its loop keeps. -/
import Derived.Test.YtcicboolbeognalFormField
import Derived.Test.YtcicboolbeognalBox4
import Derived.Test.YtcicboolbeognalStrGot
import Derived.Test.YtcicboolbeognalStrNums
namespace Go.Proofs.Ytcicboolbeognal
open Go.RowKit
set_option linter.unusedVariables false

/-- The mode of a field: of one name it is never kept. -/
def fmode (x : ByteArray) : Int := if x.toList == [97, 117, 116, 104, 111, 114, 105, 122, 97, 116, 105, 111, 110] then 3 else 1

/-- What stands behind the first n fields of L: the bytes and the table's fields. -/
def PutN (L : List Fld) (m : Int) (xs : List Fld) : Nat → List Int → List Fld → Prop
  | 0, q, ys => q = [] ∧ ys = xs
  | n + 1, q, ys => ∃ q1 y1 x y r, PutN L m xs n q1 y1 ∧ L[n]? = some (x, y) ∧ PutAns m y1 x y (fmode x) r ys ∧ q = q1 ++ r

theorem PutN.one {L : List Fld} {m : Int} {xs : List Fld} : ∀ {n : Nat} {q r : List Int} {ys zs : List Fld}, PutN L m xs n q ys → PutN L m xs n r zs → q = r ∧ ys = zs := by
  intro n
  induction n with
  | zero =>
    rintro q r ys zs ⟨rfl, rfl⟩ ⟨rfl, rfl⟩
    exact ⟨rfl, rfl⟩
  | succ n ih =>
    rintro q r ys zs ⟨q1, y1, x, y, r1, h1, h2, h3, rfl⟩ ⟨q2, y2, x2, z2, r2, g1, g2, g3, rfl⟩
    obtain ⟨rfl, rfl⟩ := ih h1 g1
    rw [h2] at g2
    injection g2 with g2
    injection g2 with e1 e2
    subst e1
    subst e2
    obtain ⟨rfl, rfl⟩ := h3.one g3
    exact ⟨rfl, rfl⟩

theorem PutAns.fits {m : Int} {xs : List Fld} {x y : ByteArray} {mode : Int} {q : List Int} {ys : List Fld} (h : PutAns m xs x y mode q ys) : ys.length ≤ xs.length + 1 ∧ fldBytes ys ≤ fldBytes xs + (x.size + y.size) ∧ q.length ≤ x.size + y.size + 18 := by
  rcases h with ⟨_, i, b, _, h2, h3⟩ | ⟨_, rfl, rfl⟩
  · have h4 := h2.len
    rcases h3 with ⟨_, _, h⟩ | ⟨_, rfl⟩
    · refine ⟨h.short, ?_, h4⟩
      rcases h with ⟨_, k, _, rfl⟩ | ⟨_, rfl⟩
      · have h5 := fldBytes_take ((x, y) :: xs) k
        have h6 : fldBytes ((x, y) :: xs) = x.size + y.size + fldBytes xs := by simp [fldBytes]
        omega
      · omega
    · exact ⟨by omega, by omega, h4⟩
  · exact ⟨by omega, by omega, by simp⟩

theorem PutN.fits {L : List Fld} {m : Int} {xs : List Fld} : ∀ {n : Nat} {q : List Int} {ys : List Fld}, PutN L m xs n q ys → ys.length ≤ xs.length + n ∧ fldBytes ys ≤ fldBytes xs + fldBytes (L.take n) ∧ q.length ≤ fldBytes (L.take n) + 18 * n := by
  intro n
  induction n with
  | zero =>
    rintro q ys ⟨rfl, rfl⟩
    exact ⟨by omega, by omega, by simp⟩
  | succ n ih =>
    rintro q ys ⟨q1, y1, x, y, r, h1, h2, h3, rfl⟩
    have h4 := ih h1
    have h5 := h3.fits
    have h6 := fldBytes_step L n x y h2
    rw [List.length_append]
    omega

theorem own_set_other {w : World} {base n size : Nat} {e : TypeId} {v : Value} {xs : List Value} (h : w.ownsRow base e size v n xs) {b : Nat} (hb : v.ownBlock ≠ some b) (k : Nat) (u : Value) : (w.setCell ⟨b, k, none⟩ u).ownsRow base e size v n xs := by
  refine ⟨h.1, ?_⟩
  rcases h.2 with h | ⟨g, cap, cur, heq, h1, hg, r⟩
  · exact .inl h
  · refine .inr ⟨g, cap, cur, heq, h1, ?_, r⟩
    rw [set_block_other _ _ _ _ _ (fun e => hb (by rw [heq, e]; rfl))]
    exact hg

/-- What the loop of PutFields keeps: the answer's variable, the table's, the bytes. -/
def PSt (w W : World) (bb : Nat) (m : Int) (q : List Int) (ql g c : Nat) (va : Option Addr) (n vc : Nat) (ys : List Fld) : Prop :=
  Below w.heap.size w W ∧ w.heap.size + 1 < bb ∧ Box2 W (w.heap.size + 1) 40 (.int .i64 0) (.slice none 0 0) ∧ Box2 W bb 40 (.int .i64 m) (.slice va n vc) ∧
    Owns W w.heap.size (some ⟨g, 0, none⟩) ql c q ∧ OwnF W w.heap.size (.slice va n vc) n ys

theorem PSt.stays {w W W' : World} {bb : Nat} {m : Int} {q : List Int} {ql g c : Nat} {va : Option Addr} {n vc : Nat} {ys : List Fld} (h : PSt w W bb m q ql g c va n vc ys) (hb : Below W.heap.size W W') : PSt w W' bb m q ql g c va n vc ys :=
  ⟨h.1.trans (hb.mono h.1.size), h.2.1, h.2.2.1.stays hb, h.2.2.2.1.stays hb, h.2.2.2.2.1.below hb, h.2.2.2.2.2.stays hb⟩

theorem owns_apart2 {W : World} {base n cap : Nat} {a : Option Addr} {zs : List Int} (h : Owns W base a n cap zs) {b : Nat} {x y : Value} (hq : Box2 W b 40 x y) : (Value.slice a n cap).ownBlock ≠ some b := by
  rw [ownBlock_slice]
  exact h.other hq (by decide)

theorem ownF_apart2 {W : World} {base n k : Nat} {v : Value} {ys : List Fld} (h : OwnF W base v k ys) {b : Nat} {x y : Value} (hq : Box2 W b 40 x y) : v.ownBlock ≠ some b := own_other' h.1 hq (by decide)

theorem owns_setTwo {W : World} {base n cap : Nat} {a : Option Addr} {zs : List Int} (h : Owns W base a n cap zs) {b : Nat} {x y : Value} (hq : Box2 W b 40 x y) (u v : Value) : Owns ((W.setCell ⟨b, 0, none⟩ u).setCell ⟨b, 1, none⟩ v) base a n cap zs :=
  ⟨own_set_other (own_set_other h.1 (owns_apart2 h hq) _ _) (owns_apart2 h hq) _ _, h.2⟩

theorem ownF_setTwo {W : World} {base k : Nat} {z : Value} {ys : List Fld} (h : OwnF W base z k ys) {b : Nat} {x y : Value} (hq : Box2 W b 40 x y) (u v : Value) : OwnF ((W.setCell ⟨b, 0, none⟩ u).setCell ⟨b, 1, none⟩ v) base z k ys :=
  ⟨own_set_other (own_set_other h.1 (own_other' h.1 hq (by decide)) _ _) (own_other' h.1 hq (by decide)) _ _, h.2⟩

theorem PSt.put {w W : World} {bb : Nat} {m : Int} {q : List Int} {ql g c : Nat} {va : Option Addr} {n vc : Nat} {ys : List Fld} (h : PSt w W bb m q ql g c va n vc ys) {B : Nat} (hB : w.heap.size ≤ B) {a2 : Option Addr} {n2 c2 : Nat} {zs : List Fld} (ho : OwnF W B (.slice a2 n2 c2) n2 zs) :
    PSt w ((W.setCell ⟨bb, 0, none⟩ (.int .i64 m)).setCell ⟨bb, 1, none⟩ (.slice a2 n2 c2)) bb m q ql g c a2 n2 c2 zs := by
  obtain ⟨h1, h2, h3, h4, h5, h6⟩ := h
  refine ⟨(h1.setCell (p := ⟨bb, 0, none⟩) (show w.heap.size ≤ bb by omega) _).setCell (p := ⟨bb, 1, none⟩) (show w.heap.size ≤ bb by omega) _, h2, ?_, two_set1 (two_set0 h4 _) _, owns_setTwo h5 h4 _ _, ?_⟩
  · show _ = _
    rw [set_block_other _ _ _ _ _ (by omega), set_block_other _ _ _ _ _ (by omega)]
    exact h3
  · have := ownF_setTwo ho h4 (.int .i64 m) (.slice a2 n2 c2)
    exact ⟨own_down this.1 hB, this.2⟩

theorem PSt.app {w W W' : World} {bb : Nat} {m : Int} {q r : List Int} {ql rl g c g' c' : Nat} {va : Option Addr} {n vc : Nat} {ys : List Fld} (h : PSt w W bb m q ql g c va n vc ys) (hg : W.grownBy W' (some g)) (ho : W'.ownsRow w.heap.size 5 1 (.slice (some ⟨g', 0, none⟩) (ql + rl) c') (ql + rl) (q.map (Value.int .u8) ++ r.map (Value.int .u8))) (hr : ∀ x ∈ r, 0 ≤ x ∧ x ≤ 255) :
    PSt w W' bb m (q ++ r) (ql + rl) g' c' va n vc ys := by
  obtain ⟨h1, h2, h3, h4, h5, h6⟩ := h
  have e1 : some g ≠ some bb := fun e => by
    have := owns_apart2 h5 h4
    rw [ownBlock_slice] at this
    exact this e
  have e2 : some g ≠ some (w.heap.size + 1) := fun e => by
    have := owns_apart2 h5 h3
    rw [ownBlock_slice] at this
    exact this e
  have hgb : ∃ cur : Array Value, W.heap[g]? = some (.cells cur 5 (0, 0)) := by
    rcases h5.1.2 with ⟨h, _⟩ | ⟨g2, cap2, cur, heq, _, hg2, _⟩
    · cases h
    · injection heq with e3 _ _
      injection e3 with e3
      injection e3 with e3
      subst e3
      exact ⟨cur, hg2⟩
  obtain ⟨cur, hgb⟩ := hgb
  refine ⟨h1.grown hg h1.size (fun k hk => ?_), h2, h3.grown hg e2, h4.grown hg e1, ⟨?_, ?_⟩, h6.grown hg (.inr (own_other' h6.1 hgb (by decide)))⟩
  · exact (h5.lt k hk).1
  · rw [List.map_append]
    exact ho
  · intro x hx
    rcases List.mem_append.1 hx with hx | hx
    · exact h5.2 x hx
    · exact hr x hx

theorem PSt.fin {w W : World} {bb : Nat} {m : Int} {q : List Int} {ql g c : Nat} {va : Option Addr} {n vc : Nat} {ys : List Fld} (h : PSt w W bb m q ql g c va n vc ys) :
    Below w.heap.size w ((W.setCell ⟨w.heap.size + 1, 0, none⟩ (.int .i64 m)).setCell ⟨w.heap.size + 1, 1, none⟩ (.slice va n vc)).drew ∧ Box2 ((W.setCell ⟨w.heap.size + 1, 0, none⟩ (.int .i64 m)).setCell ⟨w.heap.size + 1, 1, none⟩ (.slice va n vc)).drew (w.heap.size + 1) 40 (.int .i64 m) (.slice va n vc) ∧
    Owns ((W.setCell ⟨w.heap.size + 1, 0, none⟩ (.int .i64 m)).setCell ⟨w.heap.size + 1, 1, none⟩ (.slice va n vc)).drew w.heap.size (some ⟨g, 0, none⟩) ql c q ∧ OwnF ((W.setCell ⟨w.heap.size + 1, 0, none⟩ (.int .i64 m)).setCell ⟨w.heap.size + 1, 1, none⟩ (.slice va n vc)).drew w.heap.size (.slice va n vc) n ys := by
  obtain ⟨h1, h2, h3, h4, h5, h6⟩ := h
  exact ⟨((h1.setCell (p := ⟨w.heap.size + 1, 0, none⟩) (show w.heap.size ≤ w.heap.size + 1 by omega) _).setCell (p := ⟨w.heap.size + 1, 1, none⟩) (show w.heap.size ≤ w.heap.size + 1 by omega) _).drew, two_set1 (two_set0 h3 _) _, owns_setTwo h5 h3 _ _, ownF_setTwo h6 h3 _ _⟩

end Go.Proofs.Ytcicboolbeognal
