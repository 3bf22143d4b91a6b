/- An append onto a row of the call's own that has a block, of whatever may be appended: it has a block behind it, too. No program in it. What PutFields answers, and what its loop keeps. A method, and the name of an op's number: no statement of the program; no condition. Requests and answers that are right: no statement of the program; no condition. The fields of a request: no statement of the program; no condition. Rows of frames that a call has made: their cells, their bodies. No statement of the program but its table of types. What Part answers: the model. No program in it. What both programs' FrameOk answer: whether each number is within its bounds and the body is no longer than it may be; nothing that was there is written. A frame's bytes; no program in it. -/
import Derived.Test.YtbaijmkghgnleaaGreatDoorM03
import Derived.Test.YtbaijmkghgnleaaGreatDoorM22
import Derived.Test.YtbaijmkghgnleaaGreatDoorM23
import Derived.Test.YtbaijmkghgnleaaGreatDoorM04
import Derived.Test.YtbaijmkghgnleaaGreatDoorM01
import Derived.Test.YtbaijmkghgnleaaGreatDoorM09
import Derived.Lib.Strings
import Derived.Lib.ItoaMem
namespace Go.Proofs.YtbaijmkghgnleaaGreatDoor
open Go.RowKit
set_option linter.unusedVariables false

theorem run_append_got {P : Program} (w : World) (base : Nat) (t tx ty e : TypeId) (i : TypeInfo) (z : Value) (size bytes : Nat) (ht : P.underlying t = some (.slice e)) (hi : P.info? e = some i) (hz : i.zero = some z)
    (hsize : i.size = size) (hby : i.bytes = bytes) (hzs : z.cells.size = size) (hsz : 0 < size)
    (g n cap : Nat) (xs : List Value) (hown : w.ownsRow base e size (.slice (some ⟨g, 0, none⟩) n cap) n xs)
    (x : Value) (m : Nat) (news : List Value) (hs : Src P size tx x m news w)
    (h63 : n + m ≤ maxLen) (hbytes : (n + m) * bytes ≤ 140737488355328) (hbase : base ≤ w.heap.size) :
    ∃ g' c' w', (Builtin.append_ #[t, tx] ty #[.slice (some ⟨g, 0, none⟩) n cap, x]).run P w = .ok (.slice (some ⟨g', 0, none⟩) (n + m) c') w' ∧ w'.ownsRow base e size (.slice (some ⟨g', 0, none⟩) (n + m) c') (n + m) (xs ++ news) ∧ w.grownBy w' (some g) := by
  subst hsize
  subst hby
  have hsmall : n + m ≤ 9223372036854775807 := by simp only [maxLen] at h63; omega
  have hl := hs.newsLen
  have hlen : (xs ++ news).length = (n + m) * i.size := by rw [List.length_append, hown.1, hl, Nat.add_mul]
  rcases hown.2 with ⟨h, _⟩ | ⟨g', cap', cur, heq, hbg, hg, hnc, hcm, hcs, htake⟩
  · cases h
  · injection heq with e1 e2 e3
    injection e1 with e1
    injection e1 with e1
    subst e1
    subst e3
    by_cases hroom : n + m ≤ cap
    · have hfit : n * i.size + news.length ≤ cur.size := by rw [hl, hcs, ← Nat.add_mul]; exact Nat.mul_le_mul_right _ hroom
      have hr := run_room_any w t tx ty e i ht hi g n cap cur hg x m news hs hroom hfit
      refine ⟨_, _, _, hr, ⟨hlen, .inr ⟨g, cap, _, rfl, hbg, setRow_heap w g cur _ e _ hg, hroom, hcm, ?_, ?_⟩⟩, ⟨rfl, rfl, rfl, by simp, fun k _ hk => setRow_other w g k _ (fun e => hk (by simp [e]))⟩⟩
      · simp only [List.size_toArray, List.length_append, List.length_take, List.length_drop, Array.length_toList]
        omega
      · rw [htake, ← hlen]
        exact List.take_left
    · have holds : ∀ j u, xs[j]? = some u → w.cell? ((⟨g, 0, none⟩ : Addr).add j) = some u := hown.cells (g := g) rfl
      have hold := run_firstCells_some (P := P) w.drew i.size n ⟨g, 0, none⟩ n cap xs hown.1 (by simpa using holds)
      have hr := run_append_grow_src (P := P) w t tx ty e i z ht hi hz (some ⟨g, 0, none⟩) n cap xs hold x m news hs (by omega) (by omega) (growslice_fits (by omega) hbytes)
      have hge := grownCap_ge w (n + m) cap e
      have hcm' : grownCap w (n + m) cap e ≤ maxLen := grownCap_le_maxLen w (n + m) cap e h63
      refine ⟨_, _, _, hr, ⟨hlen, .inr ⟨w.heap.size, _, _, rfl, hbase, heap_alloc_new w.drew _, hge, hcm', ?_, ?_⟩⟩, ⟨rfl, rfl, rfl, by simp, fun k hk _ => heap_alloc_old w.drew _ hk⟩⟩
      · simp only [Array.size_append, List.size_toArray, size_zeroCells, hzs, hlen, ← Nat.add_mul]
        congr 1
        omega
      · simp only [Array.toList_append]
        rw [← hlen]
        exact List.take_left

theorem wpList_append_got {P : Program} {w : World} {ops : Array Oper} {rest : List Oper} {o : Oper} {a : Act} {Q : Exit → Act → World → Prop} (hgd : o.guard = none) (s x : Operand) (t tx : TypeId)
    (ho : o.op = .call { callee := .builtin .append, args := #[s, x], argTypes := #[t, tx] })
    (base : Nat) (e : TypeId) (i : TypeInfo) (z : Value) (size bytes : Nat) (ht : P.underlying t = some (.slice e)) (hi : P.info? e = some i) (hz : i.zero = some z)
    (hsize : i.size = size) (hby : i.bytes = bytes) (hzs : z.cells.size = size) (hsz : 0 < size)
    (g n cap : Nat) (xs : List Value) (hs : a.eval s = .slice (some ⟨g, 0, none⟩) n cap) (hown : w.ownsRow base e size (.slice (some ⟨g, 0, none⟩) n cap) n xs)
    (u : Value) (m : Nat) (news : List Value) (hx : a.eval x = u) (hsrc : Src P size tx u m news w)
    (h63 : n + m ≤ maxLen) (hbytes : (n + m) * bytes ≤ 140737488355328) (hbase : base ≤ w.heap.size)
    (h : ∀ g' c' w', w'.ownsRow base e size (.slice (some ⟨g', 0, none⟩) (n + m) c') (n + m) (xs ++ news) → w.grownBy w' (some g) → wpList P ops Q rest (a.put o.dst (.slice (some ⟨g', 0, none⟩) (n + m) c')) w') : wpList P ops Q (o :: rest) a w := by
  refine wpList_plain hgd fun K hK => ?_
  obtain ⟨g', c', w', hr, h2, h3⟩ := run_append_got (P := P) w base t tx o.type e i z size bytes ht hi hz hsize hby hzs hsz g n cap xs hown u m news hsrc h63 hbytes hbase
  unfold Oper.wp execOp
  simp only [ho, resolve, invoke, builtin, Sem.run_bind, Sem.run_pure, Result.andThen_ok, List.map_toArray, List.map_cons, List.map_nil, hs, hx, hr]
  exact hK _ _ (h g' c' w' h2 h3)

end Go.Proofs.YtbaijmkghgnleaaGreatDoor

namespace Go.Proofs.YtbaijmkghgnleaaGreatDoor
open Go.RowKit
set_option linter.unusedVariables false

/-- The mode of a field: of one name it is never kept. -/
def fmode (x : ByteArray) : Int := if x.toList == [97, 117, 116, 104, 111, 114, 105, 122, 97, 116, 105, 111, 110] then 3 else 1

/-- What stands behind the first n fields of L: the bytes and the table's fields. -/
def PutN (L : List Fld) (m : Int) (xs : List Fld) : Nat → List Int → List Fld → Prop
  | 0, q, ys => q = [] ∧ ys = xs
  | n + 1, q, ys => ∃ q1 y1 x y r, PutN L m xs n q1 y1 ∧ L[n]? = some (x, y) ∧ PutAns m y1 x y (fmode x) r ys ∧ q = q1 ++ r

theorem PutN.one {L : List Fld} {m : Int} {xs : List Fld} : ∀ {n : Nat} {q r : List Int} {ys zs : List Fld}, PutN L m xs n q ys → PutN L m xs n r zs → q = r ∧ ys = zs := by
  intro n
  induction n with
  | zero =>
    rintro q r ys zs ⟨rfl, rfl⟩ ⟨rfl, rfl⟩
    exact ⟨rfl, rfl⟩
  | succ n ih =>
    rintro q r ys zs ⟨q1, y1, x, y, r1, h1, h2, h3, rfl⟩ ⟨q2, y2, x2, z2, r2, g1, g2, g3, rfl⟩
    obtain ⟨rfl, rfl⟩ := ih h1 g1
    rw [h2] at g2
    injection g2 with g2
    injection g2 with e1 e2
    subst e1
    subst e2
    obtain ⟨rfl, rfl⟩ := h3.one g3
    exact ⟨rfl, rfl⟩

theorem PutAns.fits {m : Int} {xs : List Fld} {x y : ByteArray} {mode : Int} {q : List Int} {ys : List Fld} (h : PutAns m xs x y mode q ys) : ys.length ≤ xs.length + 1 ∧ fldBytes ys ≤ fldBytes xs + (x.size + y.size) ∧ q.length ≤ x.size + y.size + 18 := by
  rcases h with ⟨_, i, b, _, h2, h3⟩ | ⟨_, rfl, rfl⟩
  · have h4 := h2.len
    rcases h3 with ⟨_, _, h⟩ | ⟨_, rfl⟩
    · refine ⟨h.short, ?_, h4⟩
      rcases h with ⟨_, k, _, rfl⟩ | ⟨_, rfl⟩
      · have h5 := fldBytes_take ((x, y) :: xs) k
        have h6 : fldBytes ((x, y) :: xs) = x.size + y.size + fldBytes xs := by simp [fldBytes]
        omega
      · omega
    · exact ⟨by omega, by omega, h4⟩
  · exact ⟨by omega, by omega, by simp⟩

theorem PutN.fits {L : List Fld} {m : Int} {xs : List Fld} : ∀ {n : Nat} {q : List Int} {ys : List Fld}, PutN L m xs n q ys → ys.length ≤ xs.length + n ∧ fldBytes ys ≤ fldBytes xs + fldBytes (L.take n) ∧ q.length ≤ fldBytes (L.take n) + 18 * n := by
  intro n
  induction n with
  | zero =>
    rintro q ys ⟨rfl, rfl⟩
    exact ⟨by omega, by omega, by simp⟩
  | succ n ih =>
    rintro q ys ⟨q1, y1, x, y, r, h1, h2, h3, rfl⟩
    have h4 := ih h1
    have h5 := h3.fits
    have h6 := fldBytes_step L n x y h2
    rw [List.length_append]
    omega

theorem own_set_other {w : World} {base n size : Nat} {e : TypeId} {v : Value} {xs : List Value} (h : w.ownsRow base e size v n xs) {b : Nat} (hb : v.ownBlock ≠ some b) (k : Nat) (u : Value) : (w.setCell ⟨b, k, none⟩ u).ownsRow base e size v n xs := by
  refine ⟨h.1, ?_⟩
  rcases h.2 with h | ⟨g, cap, cur, heq, h1, hg, r⟩
  · exact .inl h
  · refine .inr ⟨g, cap, cur, heq, h1, ?_, r⟩
    rw [set_block_other _ _ _ _ _ (fun e => hb (by rw [heq, e]; rfl))]
    exact hg

/-- What the loop of PutFields keeps: the answer's variable, the table's, the bytes. -/
def PSt (w W : World) (bb : Nat) (m : Int) (q : List Int) (ql g c : Nat) (va : Option Addr) (n vc : Nat) (ys : List Fld) : Prop :=
  Below w.heap.size w W ∧ w.heap.size + 1 < bb ∧ Box2 W (w.heap.size + 1) 32 (.int .i64 0) (.slice none 0 0) ∧ Box2 W bb 32 (.int .i64 m) (.slice va n vc) ∧
    Owns W w.heap.size (some ⟨g, 0, none⟩) ql c q ∧ OwnF W w.heap.size (.slice va n vc) n ys

theorem PSt.stays {w W W' : World} {bb : Nat} {m : Int} {q : List Int} {ql g c : Nat} {va : Option Addr} {n vc : Nat} {ys : List Fld} (h : PSt w W bb m q ql g c va n vc ys) (hb : Below W.heap.size W W') : PSt w W' bb m q ql g c va n vc ys :=
  ⟨h.1.trans (hb.mono h.1.size), h.2.1, h.2.2.1.stays hb, h.2.2.2.1.stays hb, h.2.2.2.2.1.below hb, h.2.2.2.2.2.stays hb⟩

theorem owns_apart2 {W : World} {base n cap : Nat} {a : Option Addr} {zs : List Int} (h : Owns W base a n cap zs) {b : Nat} {x y : Value} (hq : Box2 W b 32 x y) : (Value.slice a n cap).ownBlock ≠ some b := by
  rw [ownBlock_slice]
  exact h.other hq (by decide)

theorem ownF_apart2 {W : World} {base n k : Nat} {v : Value} {ys : List Fld} (h : OwnF W base v k ys) {b : Nat} {x y : Value} (hq : Box2 W b 32 x y) : v.ownBlock ≠ some b := own_other' h.1 hq (by decide)

theorem owns_setTwo {W : World} {base n cap : Nat} {a : Option Addr} {zs : List Int} (h : Owns W base a n cap zs) {b : Nat} {x y : Value} (hq : Box2 W b 32 x y) (u v : Value) : Owns ((W.setCell ⟨b, 0, none⟩ u).setCell ⟨b, 1, none⟩ v) base a n cap zs :=
  ⟨own_set_other (own_set_other h.1 (owns_apart2 h hq) _ _) (owns_apart2 h hq) _ _, h.2⟩

theorem ownF_setTwo {W : World} {base k : Nat} {z : Value} {ys : List Fld} (h : OwnF W base z k ys) {b : Nat} {x y : Value} (hq : Box2 W b 32 x y) (u v : Value) : OwnF ((W.setCell ⟨b, 0, none⟩ u).setCell ⟨b, 1, none⟩ v) base z k ys :=
  ⟨own_set_other (own_set_other h.1 (own_other' h.1 hq (by decide)) _ _) (own_other' h.1 hq (by decide)) _ _, h.2⟩

theorem PSt.put {w W : World} {bb : Nat} {m : Int} {q : List Int} {ql g c : Nat} {va : Option Addr} {n vc : Nat} {ys : List Fld} (h : PSt w W bb m q ql g c va n vc ys) {B : Nat} (hB : w.heap.size ≤ B) {a2 : Option Addr} {n2 c2 : Nat} {zs : List Fld} (ho : OwnF W B (.slice a2 n2 c2) n2 zs) :
    PSt w ((W.setCell ⟨bb, 0, none⟩ (.int .i64 m)).setCell ⟨bb, 1, none⟩ (.slice a2 n2 c2)) bb m q ql g c a2 n2 c2 zs := by
  obtain ⟨h1, h2, h3, h4, h5, h6⟩ := h
  refine ⟨(h1.setCell (p := ⟨bb, 0, none⟩) (show w.heap.size ≤ bb by omega) _).setCell (p := ⟨bb, 1, none⟩) (show w.heap.size ≤ bb by omega) _, h2, ?_, two_set1 (two_set0 h4 _) _, owns_setTwo h5 h4 _ _, ?_⟩
  · show _ = _
    rw [set_block_other _ _ _ _ _ (by omega), set_block_other _ _ _ _ _ (by omega)]
    exact h3
  · have := ownF_setTwo ho h4 (.int .i64 m) (.slice a2 n2 c2)
    exact ⟨own_down this.1 hB, this.2⟩

theorem PSt.app {w W W' : World} {bb : Nat} {m : Int} {q r : List Int} {ql rl g c g' c' : Nat} {va : Option Addr} {n vc : Nat} {ys : List Fld} (h : PSt w W bb m q ql g c va n vc ys) (hg : W.grownBy W' (some g)) (ho : W'.ownsRow w.heap.size 5 1 (.slice (some ⟨g', 0, none⟩) (ql + rl) c') (ql + rl) (q.map (Value.int .u8) ++ r.map (Value.int .u8))) (hr : ∀ x ∈ r, 0 ≤ x ∧ x ≤ 255) :
    PSt w W' bb m (q ++ r) (ql + rl) g' c' va n vc ys := by
  obtain ⟨h1, h2, h3, h4, h5, h6⟩ := h
  have e1 : some g ≠ some bb := fun e => by
    have := owns_apart2 h5 h4
    rw [ownBlock_slice] at this
    exact this e
  have e2 : some g ≠ some (w.heap.size + 1) := fun e => by
    have := owns_apart2 h5 h3
    rw [ownBlock_slice] at this
    exact this e
  have hgb : ∃ cur : Array Value, W.heap[g]? = some (.cells cur 5 (0, 0)) := by
    rcases h5.1.2 with ⟨h, _⟩ | ⟨g2, cap2, cur, heq, _, hg2, _⟩
    · cases h
    · injection heq with e3 _ _
      injection e3 with e3
      injection e3 with e3
      subst e3
      exact ⟨cur, hg2⟩
  obtain ⟨cur, hgb⟩ := hgb
  refine ⟨h1.grown hg h1.size (fun k hk => ?_), h2, h3.grown hg e2, h4.grown hg e1, ⟨?_, ?_⟩, h6.grown hg (.inr (own_other' h6.1 hgb (by decide)))⟩
  · exact (h5.lt k hk).1
  · rw [List.map_append]
    exact ho
  · intro x hx
    rcases List.mem_append.1 hx with hx | hx
    · exact h5.2 x hx
    · exact hr x hx

theorem PSt.fin {w W : World} {bb : Nat} {m : Int} {q : List Int} {ql g c : Nat} {va : Option Addr} {n vc : Nat} {ys : List Fld} (h : PSt w W bb m q ql g c va n vc ys) :
    Below w.heap.size w ((W.setCell ⟨w.heap.size + 1, 0, none⟩ (.int .i64 m)).setCell ⟨w.heap.size + 1, 1, none⟩ (.slice va n vc)).drew ∧ Box2 ((W.setCell ⟨w.heap.size + 1, 0, none⟩ (.int .i64 m)).setCell ⟨w.heap.size + 1, 1, none⟩ (.slice va n vc)).drew (w.heap.size + 1) 32 (.int .i64 m) (.slice va n vc) ∧
    Owns ((W.setCell ⟨w.heap.size + 1, 0, none⟩ (.int .i64 m)).setCell ⟨w.heap.size + 1, 1, none⟩ (.slice va n vc)).drew w.heap.size (some ⟨g, 0, none⟩) ql c q ∧ OwnF ((W.setCell ⟨w.heap.size + 1, 0, none⟩ (.int .i64 m)).setCell ⟨w.heap.size + 1, 1, none⟩ (.slice va n vc)).drew w.heap.size (.slice va n vc) n ys := by
  obtain ⟨h1, h2, h3, h4, h5, h6⟩ := h
  exact ⟨((h1.setCell (p := ⟨w.heap.size + 1, 0, none⟩) (show w.heap.size ≤ w.heap.size + 1 by omega) _).setCell (p := ⟨w.heap.size + 1, 1, none⟩) (show w.heap.size ≤ w.heap.size + 1 by omega) _).drew, two_set1 (two_set0 h3 _) _, owns_setTwo h5 h3 _ _, ownF_setTwo h6 h3 _ _⟩

end Go.Proofs.YtbaijmkghgnleaaGreatDoor

namespace Go.Proofs.YtbaijmkghgnleaaGreatDoor
open Go.RowKit
set_option linter.unusedVariables false

/-- The method of an op. -/
def methT (op : Int) : ByteArray := if op = 1 then ⟨#[80, 79, 83, 84]⟩ else if op = 2 then ⟨#[72, 69, 65, 68]⟩ else if op = 3 then ⟨#[80, 65, 84, 67, 72]⟩ else if op = 4 then ⟨#[80, 85, 84]⟩ else if op = 5 then ⟨#[71, 69, 84]⟩ else if op = 6 then ⟨#[68, 69, 76, 69, 84, 69]⟩ else ⟨#[]⟩

/-- The name of the field of an op's number. -/
def nameT (op : Int) : ByteArray := if op = 1 then ⟨#[117, 112, 108, 111, 97, 100, 45, 108, 101, 110, 103, 116, 104]⟩ else if op = 3 then ⟨#[117, 112, 108, 111, 97, 100, 45, 111, 102, 102, 115, 101, 116]⟩ else if op = 4 then ⟨#[117, 112, 108, 111, 97, 100, 45, 115, 117, 109]⟩ else ⟨#[]⟩

end Go.Proofs.YtbaijmkghgnleaaGreatDoor

namespace Go.Proofs.YtbaijmkghgnleaaGreatDoor
open Go.RowKit
set_option linter.unusedVariables false

/-- A byte that may stand in an upload's name. -/
def idC (b : UInt8) : Bool := (decide (97 ≤ b.toNat) && decide (b.toNat ≤ 122)) || (decide (48 ≤ b.toNat) && decide (b.toNat ≤ 57))

/-- Whether a text is an upload's name. -/
def idB (s : List UInt8) : Bool := s.all idC && decide (1 ≤ s.length ∧ s.length ≤ 8)

/-- The greatest number of an op; -1: it has none. -/
def mostR (op : Int) : Int := if op = 1 ∨ op = 3 then 1000000000 else if op = 4 then 4294967295 else -1

/-- Whether a request is right. -/
def reqB (op : Int) (s : List UInt8) (n : Int) : Bool := decide (1 ≤ op ∧ op ≤ 6) && idB s && (if mostR op < 0 then n == 0 else decide (0 ≤ n ∧ n ≤ mostR op))

/-- Whether an answer is right. -/
def respB (st off : Int) : Bool := decide (100 ≤ st ∧ st ≤ 599) && decide (-1 ≤ off ∧ off ≤ 1000000000)

theorem idB_long {s : List UInt8} (h : ¬ (1 ≤ s.length ∧ s.length ≤ 8)) : idB s = false := by rw [idB, decide_eq_false h, Bool.and_false]

theorem idB_bad {s : List UInt8} {k : Nat} (hk : k < s.length) (h : idC s[k] = false) : idB s = false := by
  rw [idB, Bool.and_eq_false_iff]
  refine .inl ?_
  rw [List.all_eq_false]
  exact ⟨s[k], List.getElem_mem hk, by simp [h]⟩

theorem idB_good {s : List UInt8} (h : ∀ k (hk : k < s.length), idC s[k] = true) : idB s = decide (1 ≤ s.length ∧ s.length ≤ 8) := by
  have : s.all idC = true := by
    rw [List.all_eq_true]
    intro x hx
    obtain ⟨k, hk, rfl⟩ := List.mem_iff_getElem.1 hx
    exact h k hk
  rw [idB, this, Bool.true_and]

end Go.Proofs.YtbaijmkghgnleaaGreatDoor

namespace Go.Proofs.YtbaijmkghgnleaaGreatDoor
open Go.RowKit
set_option linter.unusedVariables false

/-- The fields that each request has. -/
def threeF (op : Int) (s : ByteArray) : List Fld := [(⟨#[58, 109, 101, 116, 104, 111, 100]⟩, methT op), (⟨#[58, 115, 99, 104, 101, 109, 101]⟩, ⟨#[104, 116, 116, 112, 115]⟩), (⟨#[58, 112, 97, 116, 104]⟩, ⟨#[47, 117, 112, 47]⟩ ++ s)]

/-- The field of its number. -/
def numF (op n : Int) : List Fld := if (nameT op).toList = [] then [] else [(nameT op, ⟨(Lib.decDigits n.toNat).toArray⟩)]

/-- The fields of a request. -/
def fieldsR (op : Int) (s : ByteArray) (n : Int) : List Fld := if reqB op s.data.toList n = true then threeF op s ++ numF op n else []

theorem methT_size (op : Int) : (methT op).size ≤ 6 := by
  unfold methT
  repeat' split
  all_goals decide

theorem nameT_size (op : Int) : (nameT op).size ≤ 13 := by
  unfold nameT
  repeat' split
  all_goals decide

theorem reqB_id {op n : Int} {s : ByteArray} (h : reqB op s.data.toList n = true) : s.size ≤ 8 ∧ (1 ≤ op ∧ op ≤ 6) ∧ ((nameT op).toList ≠ [] → 0 ≤ n ∧ n ≤ 4294967295) := by
  simp only [reqB, Bool.and_eq_true, decide_eq_true_eq, idB] at h
  obtain ⟨⟨h1, _, h2⟩, h3⟩ := h
  rw [Array.length_toList] at h2
  refine ⟨h2.2, h1, fun hn => ?_⟩
  have hop : op = 1 ∨ op = 3 ∨ op = 4 := by
    by_cases e1 : op = 1
    · exact .inl e1
    by_cases e3 : op = 3
    · exact .inr (.inl e3)
    by_cases e4 : op = 4
    · exact .inr (.inr e4)
    exfalso
    apply hn
    rw [nameT, if_neg e1, if_neg e3, if_neg e4, Lib.toList_data]
  rcases hop with rfl | rfl | rfl
  · have e : mostR 1 = 1000000000 := by decide
    rw [e] at h3
    simp at h3
    omega
  · have e : mostR 3 = 1000000000 := by decide
    rw [e] at h3
    simp at h3
    omega
  · have e : mostR 4 = 4294967295 := by decide
    rw [e] at h3
    simp at h3
    omega

theorem fieldsR_len (op : Int) (s : ByteArray) (n : Int) : (fieldsR op s n).length ≤ 4 := by
  unfold fieldsR
  split
  · rw [List.length_append]
    have h1 : (threeF op s).length = 3 := rfl
    have h2 : (numF op n).length ≤ 1 := by
      unfold numF
      split <;> simp
    omega
  · simp

end Go.Proofs.YtbaijmkghgnleaaGreatDoor

namespace Go.Proofs.YtbaijmkghgnleaaGreatDoor
open Go.RowKit
set_option linter.unusedVariables false

/-- A frame of a row: its numbers, where its body lies, its body. -/
structure FE where
  k : Int
  f : Int
  s : Int
  a : Option Addr
  n : Nat
  c : Nat
  zs : List Int

/-- What a frame says. -/
def FE.data (e : FE) : Int × Int × Int × List Int := (e.k, e.f, e.s, e.zs)

def FE.cells (e : FE) : List Value := [.int .i64 e.k, .int .i64 e.f, .int .i64 e.s, .slice e.a e.n e.c]

def feCells (l : List FE) : List Value := l.flatMap FE.cells

theorem feCells_cons (e : FE) (l : List FE) : feCells (e :: l) = .int .i64 e.k :: .int .i64 e.f :: .int .i64 e.s :: .slice e.a e.n e.c :: feCells l := rfl

theorem feCells_append (l m : List FE) : feCells (l ++ m) = feCells l ++ feCells m := by simp [feCells]

theorem feCells_len (l : List FE) : (feCells l).length = l.length * 4 := by
  induction l with
  | nil => rfl
  | cons e l ih => rw [feCells_cons]; simp only [List.length_cons, ih]; omega

theorem feCells_at (l : List FE) : ∀ i (h : i < l.length), (feCells l)[i * 4]? = some (.int .i64 (l[i]).k) ∧ (feCells l)[i * 4 + 1]? = some (.int .i64 (l[i]).f) ∧ (feCells l)[i * 4 + 2]? = some (.int .i64 (l[i]).s) ∧ (feCells l)[i * 4 + 3]? = some (.slice (l[i]).a (l[i]).n (l[i]).c) := by
  induction l with
  | nil => intro i h; simp at h
  | cons e l ih =>
    intro i h
    cases i with
    | zero => rw [feCells_cons]; simp
    | succ i =>
      have h' : i < l.length := by simpa using h
      obtain ⟨h0, h1, h2, h3⟩ := ih i h'
      rw [feCells_cons, show (i + 1) * 4 = i * 4 + 1 + 1 + 1 + 1 by omega, show i * 4 + 1 + 1 + 1 + 1 + 1 = i * 4 + 1 + 1 + 1 + 1 + 1 by omega]
      refine ⟨?_, ?_, ?_, ?_⟩
      · simpa using h0
      · simpa using h1
      · simpa using h2
      · simpa using h3

theorem feCells_one (l : List FE) : ∀ u ∈ feCells l, u.oneCell' = true := by
  intro u hu
  simp only [feCells, List.mem_flatMap, FE.cells] at hu
  obtain ⟨e, _, hf⟩ := hu
  simp at hf
  rcases hf with rfl | rfl | rfl | rfl <;> rfl

/-- The first three numbers of a frame in its row are written over. -/
theorem feCells_set (l : List FE) (e : FE) (m : List FE) (x y z : Int) :
    (((feCells (l ++ e :: m)).set (l.length * 4) (.int .i64 x)).set (l.length * 4 + 1) (.int .i64 y)).set (l.length * 4 + 2) (.int .i64 z) = feCells (l ++ { e with k := x, f := y, s := z } :: m) := by
  have hl := feCells_len l
  rw [feCells_append, feCells_append, feCells_cons, feCells_cons]
  rw [List.set_append_right _ _ (by omega), hl, Nat.sub_self, List.set_cons_zero]
  rw [List.set_append_right _ _ (by omega), hl, show l.length * 4 + 1 - l.length * 4 = 1 by omega]
  rw [List.set_append_right _ _ (by omega), hl, show l.length * 4 + 2 - l.length * 4 = 2 by omega]
  rfl

/-- Two bodies do not lie in one block. -/
def apart (e e' : FE) : Prop := ∀ q, e.a.map (·.block) = some q → e'.a.map (·.block) ≠ some q

/-- A slice value that owns these frames, and each of them its body, no two in one block. -/
def FrRow (W : World) (base : Nat) (v : Value) (l : List FE) : Prop :=
  W.ownsRow base 55 4 v l.length (feCells l) ∧ (∀ e ∈ l, Owns W base e.a e.n e.c e.zs) ∧ l.Pairwise apart

theorem FrRow.stays {W W' : World} {base : Nat} {v : Value} {l : List FE} (h : FrRow W base v l) (hb : Below W.heap.size W W') : FrRow W' base v l :=
  ⟨own_below h.1 hb, fun e he => (h.2.1 e he).below hb, h.2.2⟩

theorem FrRow.low {W : World} {base b' : Nat} {v : Value} {l : List FE} (h : FrRow W base v l) (hb : b' ≤ base) : FrRow W b' v l :=
  ⟨own_low h.1 hb, fun e he => (h.2.1 e he).low hb, h.2.2⟩

theorem FrRow.shape {W : World} {base : Nat} {v : Value} {l : List FE} (h : FrRow W base v l) : ∃ a c, v = .slice a l.length c := by
  rcases h.1.2 with ⟨rfl, h0⟩ | ⟨g, cap, cur, rfl, _⟩
  · rw [h0]; exact ⟨_, _, rfl⟩
  · exact ⟨_, _, rfl⟩

theorem ownBlock_sl (a : Option Addr) (n cap : Nat) : (Value.slice a n cap).ownBlock = a.map (·.block) := by cases a <;> rfl

/-- The row's block is no body's. -/
theorem FrRow.rowApart {W : World} {base b2 : Nat} {v : Value} {l : List FE} (h : FrRow W base v l) {a : Option Addr} {n c : Nat} {zs : List Int} (ho : Owns W b2 a n c zs) : ∀ q, v.ownBlock = some q → a.map (·.block) ≠ some q := by
  intro q hq
  rcases h.1.2 with ⟨rfl, _⟩ | ⟨g, cap, cur, rfl, _, hg, _⟩
  · cases hq
  · obtain rfl : g = q := by simpa [Value.ownBlock] using hq
    exact ho.other hg (by decide)

theorem FrRow.grown {W W' : World} {base : Nat} {v : Value} {l : List FE} {r : Option Nat} (h : FrRow W base v l) (hg : W.grownBy W' r) (hv : ∀ q, r = some q → v.ownBlock ≠ some q) (hr : ∀ e ∈ l, ∀ q, r = some q → e.a.map (·.block) ≠ some q) : FrRow W' base v l := by
  refine ⟨h.1.kept hg ?_, fun e he => (h.2.1 e he).grown hg (hr e he), h.2.2⟩
  cases e : v.ownBlock with
  | none => exact .inl rfl
  | some k => exact .inr (fun h => hv k h.symm e)

/-- What lies from a bound on is not touched by what lies below it. -/
theorem FrRow.lts {W : World} {base : Nat} {v : Value} {l : List FE} (h : FrRow W base v l) : (∀ q, v.ownBlock = some q → base ≤ q ∧ q < W.heap.size) ∧ ∀ e ∈ l, ∀ q, e.a.map (·.block) = some q → base ≤ q ∧ q < W.heap.size :=
  ⟨h.1.lt, fun e he q hq => (h.2.1 e he).lt q hq⟩

/-- The cells of the frame at an index. -/
theorem FrRow.at {W : World} {base n c : Nat} {a : Option Addr} {l : List FE} (h : FrRow W base (.slice a n c) l) (hn : n = l.length) {i : Nat} (hi : i < l.length) :
    ∃ g, a = some ⟨g, 0, none⟩ ∧ W.cell? ⟨g, i * 4, none⟩ = some (.int .i64 (l[i]).k) ∧ W.cell? ⟨g, i * 4 + 1, none⟩ = some (.int .i64 (l[i]).f) ∧ W.cell? ⟨g, i * 4 + 2, none⟩ = some (.int .i64 (l[i]).s) ∧ W.cell? ⟨g, i * 4 + 3, none⟩ = some (.slice (l[i]).a (l[i]).n (l[i]).c) ∧ ∀ j, W.frozen? ⟨g, j, none⟩ = false := by
  rcases h.1.2 with ⟨_, h0⟩ | ⟨g, cap, cur, he, _⟩
  · omega
  · injection he with e1 e2 e3
    subst e1
    have hl := feCells_len l
    obtain ⟨h0, h1, h2, h3⟩ := feCells_at l i hi
    have ho := h.1
    rw [hn] at ho
    refine ⟨g, rfl, ?_, ?_, ?_, ?_, fun j => ho.frozenAt j⟩
    · rw [ho.cellAt _ (by omega)]; exact h0
    · rw [ho.cellAt _ (by omega)]; exact h1
    · rw [ho.cellAt _ (by omega)]; exact h2
    · rw [ho.cellAt _ (by omega)]; exact h3

theorem pair_same (M D : List FE) (e e' : FE) (ha : e'.a = e.a) (h : (M ++ e :: D).Pairwise apart) : (M ++ e' :: D).Pairwise apart := by
  rw [List.pairwise_append, List.pairwise_cons] at h ⊢
  refine ⟨h.1, ⟨fun y hy q hq => h.2.1.1 y hy q (by rw [← ha]; exact hq), h.2.1.2⟩, fun x hx y hy => ?_⟩
  rcases List.mem_cons.1 hy with rfl | hy
  · intro q hq
    rw [ha]
    exact h.2.2 x hx e (List.mem_cons_self ..) q hq
  · exact h.2.2 x hx y (List.mem_cons_of_mem _ hy)

/-- A frame's three numbers are written over in its row. -/
theorem FrRow.numbers {W : World} {base g n c : Nat} {M D : List FE} {e : FE} (h : FrRow W base (.slice (some ⟨g, 0, none⟩) n c) (M ++ e :: D)) (hn : (M ++ e :: D).length = n) (x y z : Int) :
    FrRow (((W.setCell ⟨g, M.length * 4, none⟩ (.int .i64 x)).setCell ⟨g, M.length * 4 + 1, none⟩ (.int .i64 y)).setCell ⟨g, M.length * 4 + 2, none⟩ (.int .i64 z)) base (.slice (some ⟨g, 0, none⟩) n c) (M ++ { e with k := x, f := y, s := z } :: D) ∧
      W.grownBy (((W.setCell ⟨g, M.length * 4, none⟩ (.int .i64 x)).setCell ⟨g, M.length * 4 + 1, none⟩ (.int .i64 y)).setCell ⟨g, M.length * 4 + 2, none⟩ (.int .i64 z)) (some g) := by
  have ho := h.1
  rw [hn] at ho
  have h1 := ho.stored (M.length * 4) (.int .i64 x)
  have h2 := h1.1.stored (M.length * 4 + 1) (.int .i64 y)
  have h3 := h2.1.stored (M.length * 4 + 2) (.int .i64 z)
  have hg : W.grownBy (((W.setCell ⟨g, M.length * 4, none⟩ (.int .i64 x)).setCell ⟨g, M.length * 4 + 1, none⟩ (.int .i64 y)).setCell ⟨g, M.length * 4 + 2, none⟩ (.int .i64 z)) (some g) := by
    have a1 : World.grownBy _ _ (some g) := h1.2
    have a2 : World.grownBy _ _ (some g) := h2.2
    have a3 : World.grownBy _ _ (some g) := h3.2
    exact ⟨a3.os.trans (a2.os.trans a1.os), a3.tape.trans (a2.tape.trans a1.tape), a3.output.trans (a2.output.trans a1.output), Nat.le_trans a1.size (Nat.le_trans a2.size a3.size), fun i hi hne => (a3.block i (Nat.lt_of_lt_of_le hi (Nat.le_trans a1.size a2.size)) hne).trans ((a2.block i (Nat.lt_of_lt_of_le hi a1.size) hne).trans (a1.block i hi hne))⟩
  refine ⟨⟨?_, ?_, pair_same M D e _ rfl h.2.2⟩, hg⟩
  · have h4 := h3.1
    rw [feCells_set] at h4
    rw [show (M ++ { e with k := x, f := y, s := z } :: D).length = n by rw [← hn]; simp]
    exact h4
  · intro e' he
    have key : ∀ u ∈ M ++ e :: D, Owns (((W.setCell ⟨g, M.length * 4, none⟩ (.int .i64 x)).setCell ⟨g, M.length * 4 + 1, none⟩ (.int .i64 y)).setCell ⟨g, M.length * 4 + 2, none⟩ (.int .i64 z)) base u.a u.n u.c u.zs := fun u hu => (h.2.1 u hu).grown hg (fun q hq => h.rowApart (h.2.1 u hu) q (by injection hq with hq; subst hq; rfl))
    rcases List.mem_append.1 he with he | he
    · exact key e' (List.mem_append_left _ he)
    · rcases List.mem_cons.1 he with rfl | he
      · exact key e (List.mem_append_right _ (List.mem_cons_self ..))
      · exact key e' (List.mem_append_right _ (List.mem_cons_of_mem _ he))

/-- A frame's body is written over. -/
theorem FrRow.bodied {W W' : World} {base : Nat} {v : Value} {M D : List FE} {e : FE} (h : FrRow W base v (M ++ e :: D)) (zs : List Int) (ho : Owns W' base e.a e.n e.c zs) (hg : W.grownBy W' (e.a.map (·.block))) : FrRow W' base v (M ++ { e with zs := zs } :: D) := by
  have hp := h.2.2
  rw [List.pairwise_append, List.pairwise_cons] at hp
  have hrow := h.rowApart (h.2.1 e (List.mem_append_right _ (List.mem_cons_self ..)))
  refine ⟨?_, ?_, pair_same M D e _ rfl h.2.2⟩
  · have h1 : W'.ownsRow base 55 4 v (M ++ e :: D).length (feCells (M ++ e :: D)) := by
      refine h.1.kept hg ?_
      cases hv : v.ownBlock with
      | none => exact .inl rfl
      | some q => exact .inr (fun hq => hrow q hv hq.symm)
    have e1 : feCells (M ++ { e with zs := zs } :: D) = feCells (M ++ e :: D) := by rw [feCells_append, feCells_append]; rfl
    rw [e1, show (M ++ { e with zs := zs } :: D).length = (M ++ e :: D).length by simp]
    exact h1
  · intro u hu
    rcases List.mem_append.1 hu with hu | hu
    · refine (h.2.1 u (List.mem_append_left _ hu)).grown hg (fun q hq hq2 => ?_)
      exact hp.2.2 u hu e (List.mem_cons_self ..) q hq2 hq
    · rcases List.mem_cons.1 hu with rfl | hu
      · exact ho
      · exact (h.2.1 u (List.mem_append_right _ (List.mem_cons_of_mem _ hu))).grown hg (fun q hq => hp.2.1.1 u hu q hq)

/-- What lies below a bound stays where nothing below it is written. -/
theorem FrRow.under {W W' : World} {base B : Nat} {v : Value} {l : List FE} (h : FrRow W base v l) (hb : Below B W W') (h1 : ∀ q, v.ownBlock = some q → q < B) (h2 : ∀ e ∈ l, ∀ q, e.a.map (·.block) = some q → q < B) : FrRow W' base v l := by
  have key : ∀ {e : TypeId} {size n : Nat} {v : Value} {xs : List Value}, W.ownsRow base e size v n xs → (∀ q, v.ownBlock = some q → q < B) → W'.ownsRow base e size v n xs := by
    intro e size n v xs ho hq
    refine ⟨ho.1, ?_⟩
    rcases ho.2 with h0 | ⟨g, cap, cur, rfl, hg, hh, r⟩
    · exact .inl h0
    · exact .inr ⟨g, cap, cur, rfl, hg, (hb.block g (hq g rfl)).trans hh, r⟩
  exact ⟨key h.1 h1, fun e he => ⟨key (h.2.1 e he).1 (fun q hq => h2 e he q (by rw [ownBlock_sl] at hq; exact hq)), (h.2.1 e he).2⟩, h.2.2⟩

theorem FrRow.nil (W : World) : FrRow (W.alloc (.cells #[] 55)) W.heap.size (.slice (some ⟨W.heap.size, 0, none⟩) 0 0) [] :=
  ⟨World.ownsRow_lit W #[] 0 (Nat.le_refl _) (Nat.zero_le _) rfl, by simp, List.Pairwise.nil⟩

end Go.Proofs.YtbaijmkghgnleaaGreatDoor

namespace Go.Proofs.YtbaijmkghgnleaaGreatDoor
open Go.RowKit
set_option linter.unusedVariables false

/-- How many parts of m bytes a block of len bytes has. -/
def pn (m len : Nat) : Nat := if len = 0 then 1 else (len - 1) / m + 1

theorem pn_lt {m len j : Nat} (hm : 1 ≤ m) : j < pn m len ↔ j = 0 ∨ j * m < len := by
  unfold pn
  split
  · subst len; omega
  · rw [Nat.lt_succ_iff, Nat.le_div_iff_mul_le (by omega)]
    constructor
    · intro h; right; omega
    · rintro (rfl | h)
      · omega
      · omega

theorem pn_pos (m len : Nat) : 1 ≤ pn m len := by
  unfold pn
  split
  · exact Nat.le_refl _
  · exact Nat.succ_pos _

theorem pn_last {m len j : Nat} (hm : 1 ≤ m) (h : j < pn m len) : j + 1 = pn m len ↔ len ≤ (j + 1) * m := by
  have h1 := pn_lt (m := m) (len := len) (j := j + 1) hm
  constructor
  · intro e
    have : ¬ j + 1 < pn m len := by omega
    rw [h1] at this
    omega
  · intro e
    have : ¬ j + 1 < pn m len := by rw [h1]; omega
    omega

/-- The flags of the part j of n. -/
def pf (en : Bool) (j n : Nat) : Int := if j + 1 = n then (if j = 0 ∧ en = true then 5 else 4) else (if j = 0 ∧ en = true then 1 else 0)

/-- The part j. -/
def prt (m : Nat) (s : Int) (en : Bool) (zs : List Int) (j : Nat) : Int × Int × Int × List Int := (if j = 0 then 1 else 9, pf en j (pn m zs.length), s, (zs.drop (j * m)).take m)

/-- How many bytes a part may have. -/
def clampM (most : Int) : Nat := (min (max most 1) 1000).toNat

theorem clampM_range (most : Int) : 1 ≤ clampM most ∧ clampM most ≤ 1000 := by unfold clampM; omega

/-- What Part answers. -/
def partL (s : Int) (en : Bool) (zs : List Int) (most : Int) : List (Int × Int × Int × List Int) :=
  if 1 ≤ s ∧ s ≤ 2147483647 then (List.range (pn (clampM most) zs.length)).map (prt (clampM most) s en zs) else []

theorem pn_le (m len : Nat) (hm : 1 ≤ m) : pn m len ≤ len + 1 := by
  unfold pn
  split
  · omega
  · have := Nat.div_le_self (len - 1) m; omega

theorem partL_len (s : Int) (en : Bool) (zs : List Int) (most : Int) : (partL s en zs most).length ≤ zs.length + 1 := by
  unfold partL
  split
  · rw [List.length_map, List.length_range]; exact pn_le _ _ (clampM_range most).1
  · simp

theorem partL_body (s : Int) (en : Bool) (zs : List Int) (most : Int) : ∀ e ∈ partL s en zs most, e.2.2.2.length ≤ 1000 := by
  intro e he
  unfold partL at he
  split at he
  · obtain ⟨j, _, rfl⟩ := List.mem_map.1 he
    simp only [prt, List.length_take]
    have := (clampM_range most).2
    omega
  · cases he

theorem take_part (zs : List Int) (F E m : Nat) (hE : E = F + m ∨ (E = zs.length ∧ zs.length ≤ F + m)) : (zs.drop F).take (E - F) = (zs.drop F).take m := by
  rcases hE with rfl | ⟨rfl, h⟩
  · rw [Nat.add_sub_cancel_left]
  · rw [List.take_of_length_le (by simp), List.take_of_length_le (by simp; omega)]

end Go.Proofs.YtbaijmkghgnleaaGreatDoor

namespace Go.Proofs.YtbaijmkghgnleaaGreatDoor
open Go.RowKit
set_option linter.unusedVariables false

/-- Is a frame of these numbers, with a body of n bytes, right? -/
def okF (k f s : Int) (n : Nat) : Bool := decide ((0 ≤ k ∧ k ≤ 255) ∧ (0 ≤ f ∧ f ≤ 255) ∧ (0 ≤ s ∧ s ≤ 2147483647) ∧ n ≤ 1000)

theorem okF_yes {k f s : Int} {n : Nat} (h : okF k f s n = true) : (0 ≤ k ∧ k ≤ 255) ∧ (0 ≤ f ∧ f ≤ 255) ∧ (0 ≤ s ∧ s ≤ 2147483647) ∧ n ≤ 1000 := of_decide_eq_true h

set_option maxHeartbeats 1600000 in
theorem implFrOk_any (k f s : Int) (a : Option Addr) (len cap : Nat) (w : World) :
    Calls Tryz.prog 78 #[.agg #[.int .i64 k, .int .i64 f, .int .i64 s, .slice a len cap]] w fun e w' => e = .returned (.bool (okF k f s len)) ∧ Below w.heap.size w w' := by
  by_cases c0 : 0 ≤ k
  case neg =>
    have e : okF k f s len = false := decide_eq_false (fun h => c0 h.1.1)
    rw [e]
    clear e
    go_enter Tryz.func78, Tryz.ntmps78
    go_wp2
    go_ret
    exact ⟨ret_bool (by simp; try omega), (Below.refl _ _).alloc (Nat.le_refl _) _⟩
  by_cases c1 : k ≤ 255
  case neg =>
    have e : okF k f s len = false := decide_eq_false (fun h => c1 h.1.2)
    rw [e]
    clear e
    go_enter Tryz.func78, Tryz.ntmps78
    go_wp2
    go_ret
    exact ⟨ret_bool (by simp; try omega), (Below.refl _ _).alloc (Nat.le_refl _) _⟩
  by_cases c2 : 0 ≤ f
  case neg =>
    have e : okF k f s len = false := decide_eq_false (fun h => c2 h.2.1.1)
    rw [e]
    clear e
    go_enter Tryz.func78, Tryz.ntmps78
    go_wp2
    go_ret
    exact ⟨ret_bool (by simp; try omega), (Below.refl _ _).alloc (Nat.le_refl _) _⟩
  by_cases c3 : f ≤ 255
  case neg =>
    have e : okF k f s len = false := decide_eq_false (fun h => c3 h.2.1.2)
    rw [e]
    clear e
    go_enter Tryz.func78, Tryz.ntmps78
    go_wp2
    go_ret
    exact ⟨ret_bool (by simp; try omega), (Below.refl _ _).alloc (Nat.le_refl _) _⟩
  by_cases c4 : 0 ≤ s
  case neg =>
    have e : okF k f s len = false := decide_eq_false (fun h => c4 h.2.2.1.1)
    rw [e]
    clear e
    go_enter Tryz.func78, Tryz.ntmps78
    go_wp2
    go_ret
    exact ⟨ret_bool (by simp; try omega), (Below.refl _ _).alloc (Nat.le_refl _) _⟩
  by_cases c5 : s ≤ 2147483647
  case neg =>
    have e : okF k f s len = false := decide_eq_false (fun h => c5 h.2.2.1.2)
    rw [e]
    clear e
    go_enter Tryz.func78, Tryz.ntmps78
    go_wp2
    go_ret
    exact ⟨ret_bool (by simp; try omega), (Below.refl _ _).alloc (Nat.le_refl _) _⟩
  by_cases c6 : (len : Int) ≤ 1000
  case neg =>
    have e : okF k f s len = false := decide_eq_false (fun h => c6 (by have := h.2.2.2; omega))
    rw [e]
    clear e
    go_enter Tryz.func78, Tryz.ntmps78
    go_wp2
    go_ret
    exact ⟨ret_bool (by simp; try omega), (Below.refl _ _).alloc (Nat.le_refl _) _⟩
  have e : okF k f s len = true := decide_eq_true ⟨⟨c0, c1⟩, ⟨c2, c3⟩, ⟨c4, c5⟩, by omega⟩
  rw [e]
  clear e
  go_enter Tryz.func78, Tryz.ntmps78
  go_wp2
  go_ret
  exact ⟨ret_bool (by simp; try omega), (Below.refl _ _).alloc (Nat.le_refl _) _⟩

end Go.Proofs.YtbaijmkghgnleaaGreatDoor

namespace Go.Proofs.YtbaijmkghgnleaaGreatDoor
open Go.RowKit

/-- What stands ahead of a frame's body of n bytes. -/
def headB (K F S n : Nat) : List Int := pbl n 3 3 ++ pbl K 1 1 ++ pbl F 1 1 ++ pbl S 4 4

theorem headB_len (K F S n : Nat) : (headB K F S n).length = 9 := by simp [headB, pbl_len]

theorem headB_range (K F S n : Nat) : ∀ x ∈ headB K F S n, 0 ≤ x ∧ x ≤ 255 := by
  intro x hx
  simp only [headB, List.mem_append] at hx
  rcases hx with ((hx | hx) | hx) | hx <;> exact pbl_range _ _ _ x hx

/-- What PutFrame answers. -/
def putF (k f s : Int) (zs : List Int) : List Int := if okF k f s zs.length = true then headB k.toNat f.toNat s.toNat zs.length ++ zs else []

theorem putF_len (k f s : Int) (zs : List Int) : (putF k f s zs).length ≤ 1009 := by
  unfold putF
  split
  · next h =>
    have := (okF_yes h).2.2.2
    rw [List.length_append, headB_len]
    omega
  · simp

end Go.Proofs.YtbaijmkghgnleaaGreatDoor
