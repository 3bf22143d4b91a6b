/- What the program's copyEach answers of uploads. A region that draws its order, whose operations each leave all that was there as it was (they read, make variables, call what makes rows of its own), and behind all of them a few that come one by one: each operation is looked at once, in whatever world it may come up. No program in it. What the program's copy of a store answers. Rows of records wherever they lie, their bytes wherever these do. No program in it. What the program's hasSector answers. What a put does: the model; no program in it. -/
import Derived.Test.YtjaihnmhojabfaaGreatDoorM42
import Derived.Test.YtjaihnmhojabfaaGreatDoorM03
import Derived.Deep.CutBlock
import Derived.OwnWalk
import Derived.Test.YtjaihnmhojabfaaGreatDoorM01
import Derived.StillTail
import Derived.Deep.QuietTactic
import Derived.Test.YtjaihnmhojabfaaGreatDoorM05
import Derived.Test.YtjaihnmhojabfaaGreatDoorM05
import Derived.Test.YtjaihnmhojabfaaGreatDoorM07
import Derived.Test.YtjaihnmhojabfaaGreatDoorM04
import Derived.Test.YtjaihnmhojabfaaGreatDoorM04
import Derived.Test.YtjaihnmhojabfaaGreatDoorM06
namespace Go.Proofs.YtjaihnmhojabfaaGreatDoor
open Go.RowKit
set_option linter.unusedVariables false

theorem shape_ofE {w : World} {base n : Nat} {v : Value} {xs : List Value} (h : w.ownsRow base 36 4 v n xs) : ∃ a cap, v = .slice a n cap := by
  rcases h.2 with ⟨rfl, h0⟩ | ⟨g, cap, cur, rfl, _⟩
  · rw [h0]; exact ⟨_, _, rfl⟩
  · exact ⟨_, _, rfl⟩

set_option maxRecDepth 10000 in
set_option maxHeartbeats 3200000 in
theorem implEachUp_any (ua : Option Addr) (un uc lo : Nat) (l : List UE) (w : World) (hu : UpRow w lo (.slice ua un uc) l) (hun : un = l.length) (hul : un ≤ 1048576) (hz : ∀ e ∈ l, e.n ≤ 1099511627776) :
    Calls Tryz.prog 77 #[.slice ua un uc, .func (.func 47) #[] #[]] w fun e w' => (∃ a c l', e = .returned (.slice a un c) ∧ UpRow w' w.heap.size (.slice a un c) l' ∧ l'.map UE.u = l.map UE.u) ∧ Below w.heap.size w w' := by
  have HLn : Hid (un = l.length ∧ ∀ e ∈ l, e.n ≤ 1099511627776) := ⟨hun, hz⟩
  have HX : Hid (∀ W, Below w.heap.size w W → UpRow W lo (.slice ua un uc) l) := fun W h => hu.stays h
  obtain ⟨i0, hi, hz0, hz1, hz2⟩ := info_parts info_up
  clear hu hun hz
  go_enter Tryz.func77, Tryz.ntmps77
  go_wp2_with (first | (at_make; refine _root_.Go.wpList_make_own _ rfl _ _ 27 rfl w.heap.size 36 i0 _ 4 Tryz.underlying27 hi hz0 hz1 _ _ _ un rfl rfl (by have := HLn.out.1; omega) (by rw [hz2]; omega) (by unfold maxLen; omega) (Nat.le_refl _) ?_; intro w1 hown1 hg1) | fail)
  have HB0 : Hid (Below w.heap.size w w1) := (Below.refl _ _).grown hg1 (Nat.le_refl _) (fun q hq => by cases hq)
  have HR0 : Hid (UpRow w1 w.heap.size (.slice (some ⟨w.heap.size, 0, none⟩) 0 un) []) := ⟨hown1, by simp, List.Pairwise.nil⟩
  clear hown1 hg1
  go_loopw [5, 13] (fun o i wr => ∃ (k : Nat) (va : Option Addr) (vc : Nat) (l' : List UE), k ≤ un ∧ l'.length = k ∧ i = .int .i64 (k : Int) ∧ o = .slice va k vc ∧ Hid (UpRow wr w.heap.size (.slice va k vc) l') ∧ Hid (l'.map UE.u = (l.map UE.u).take k) ∧ Hid (Below w.heap.size w wr)) (fun _ i _ => un - (intOf i).toNat)
  case atStart => exact ⟨0, _, _, [], Nat.zero_le _, rfl, rfl, rfl, HR0, rfl, HB0⟩
  case round =>
    clear HR0 HB0
    obtain ⟨k, va, vc, l', hk, hlk, rfl, rfl, HRx, HMx, HWx⟩ := hrel
    by_cases hlt : k < un
    case neg =>
      obtain rfl : k = un := by omega
      have HF : Hid (l'.map UE.u = l.map UE.u) := by show _ = _; rw [HMx.out, List.take_of_length_le (by rw [List.length_map, ← HLn.out.1]; exact Nat.le_refl _)]
      clear HMx HX
      go_wp2_with fail
      go_ret
      exact ⟨⟨va, vc, l', rfl, HRx.out, HF.out⟩, HWx.out⟩
    have hkl : k < l.length := by rw [← HLn.out.1]; exact hlt
    have hki : (k : Int) < (un : Int) := by omega
    have hk0 : (0 : Int) ≤ (k : Int) := by omega
    obtain ⟨g, rfl, g0, g1, g2, g3, _⟩ := (HX.out _ HWx.out).at HLn.out.1 hkl
    have HSg : Hid (Seg wr (l[k]).a (l[k]).n (l[k]).u.zs) := ((HX.out _ HWx.out).2.1 (l[k]) (List.getElem_mem hkl)).seg
    have hen : (l[k]).n ≤ 1099511627776 := HLn.out.2 _ (List.getElem_mem hkl)
    have HM2 : Hid (l'.map UE.u ++ [(l[k]).u] = (l.map UE.u).take (k + 1)) := by show _ = _; rw [List.take_add_one, List.getElem?_map, List.getElem?_eq_getElem hkl, HMx.out]; rfl
    clear HMx
    generalize l[k] = e at *
    obtain ⟨x1, hx1⟩ : ∃ x1, wr.alloc (.cells #[.string e.u.id, .int .i64 e.u.want, .slice e.a e.n e.c, .bool e.u.done] 36) = x1 := ⟨_, rfl⟩
    have HE1 : Hid (wr.alloc (.cells #[.string e.u.id, .int .i64 e.u.want, .slice e.a e.n e.c, .bool e.u.done] 36) = x1) := hx1
    have hb1 : Below wr.heap.size wr x1 := by rw [← hx1]; exact (Below.refl _ _).alloc (Nat.le_refl _) _
    have hU1 : BoxN x1 wr.heap.size 36 [.string e.u.id, .int .i64 e.u.want, .slice e.a e.n e.c, .bool e.u.done] := by rw [← hx1]; exact BoxN.new _ _ _
    have HB1 : Hid (Below w.heap.size w x1) := HWx.out.trans (hb1.mono HWx.out.size)
    have HR1 : Hid (UpRow x1 w.heap.size (.slice va k vc) l') := HRx.out.stays hb1
    have HG1 : Hid (Seg x1 e.a e.n e.u.zs) := HSg.out.below hb1
    have hx1s : w.heap.size ≤ x1.heap.size := HB1.out.size
    have u0 := hU1.cell 0 rfl
    have u1 := hU1.cell 1 rfl
    have u2 := hU1.cell 2 rfl
    have u3 := hU1.cell 3 rfl
    clear hx1 hb1 hU1 HSg HWx HRx
    go_upto_region 5 with fail
    rw [HE1.out]
    clear HE1 g0 g1 g2 g3
    go_wp2_with fail
    refine (implCopyUp_any e x1 HG1.out hen).mono ?_
    rintro _ y1 ⟨⟨A, C, rfl, ho1⟩, hb1'⟩
    have hy1 : x1.heap.size ≤ y1.heap.size := hb1'.size
    have hS0 := HR1.out.stays hb1'
    have hS1 : y1.ownsRow w.heap.size 36 4 (.slice va k vc) k (ueCells l') := by have := hS0.1; rw [hlk] at this; exact this
    have HG2 : Hid (∀ (v2 : Value) (y2 : World), y2.ownsRow w.heap.size 36 4 v2 (k + 1) (ueCells l' ++ UE.cells ⟨e.u, A, e.n, C⟩) → (y1.alloc (.cells #[.string e.u.id, .int .i64 e.u.want, .slice A e.n C, .bool e.u.done] 36)).grownBy y2 (Value.slice va k vc).ownBlock → UpRow y2 w.heap.size v2 (l' ++ [⟨e.u, A, e.n, C⟩]) ∧ Below w.heap.size w y2) := (fun v2 y2 hown2 hg2 => ⟨hS0.snoc ho1 hx1s (fun x hx q hq => (HR1.out.lts.2 x hx q hq).2) (by rw [hlk]; exact hown2) hg2, ((HB1.out.trans (hb1'.mono hx1s)).alloc (by omega) _).grown hg2 (by simp; omega) (fun q hq => (hS0.lts.1 q hq).1)⟩)
    have HN1 := four_new y1 e.u A e.n C
    have HO1 : Hid ((y1.alloc (.cells #[.string e.u.id, .int .i64 e.u.want, .slice A e.n C, .bool e.u.done] 36)).ownsRow w.heap.size 36 4 (.slice va k vc) k (ueCells l')) := hS1.alloc _
    have hbw : w.heap.size ≤ (y1.alloc (.cells #[.string e.u.id, .int .i64 e.u.want, .slice A e.n C, .bool e.u.done] 36)).heap.size := by simp; omega
    clear hS0 hS1 hb1' ho1 u0 u1 u2 u3
    go_wp2_with (at_builtin; refine wpList_append_own _ rfl _ _ 27 rfl w.heap.size 36 i0 (.agg #[.string ⟨#[]⟩, .int .i64 0, .slice none 0 0, .bool false]) 4 56 Tryz.underlying27 hi hz0 hz1 hz2 rfl (by decide) (.slice va k vc) k (ueCells l') rfl HO1.out ⟨y1.heap.size, 0, none⟩ 1 1 (UE.cells ⟨e.u, A, e.n, C⟩) rfl rfl HN1 (four_one e.u A e.n C) (by unfold maxLen; omega) (by omega) hbw ?_; intro v2 y2 hown2 hg2 _; obtain ⟨v2a, v2c, hv2⟩ := shape_ofE hown2; subst hv2; have HR3 := HG2.out _ _ hown2 hg2; clear hown2 hg2)
    have HR4 : Hid (UpRow y2 w.heap.size (.slice v2a (k + 1) v2c) (l' ++ [⟨e.u, A, e.n, C⟩])) := HR3.1
    have HR5 : Hid (Below w.heap.size w y2) := HR3.2
    have HM3 : Hid ((l' ++ [(⟨e.u, A, e.n, C⟩ : UE)]).map UE.u = (l.map UE.u).take (k + 1)) := by show _ = _; rw [List.map_append]; exact HM2.out
    clear HG2 HM2 HR3 HN1 HO1
    go_roundw
    case rel => exact ⟨k + 1, v2a, v2c, l' ++ [⟨e.u, A, e.n, C⟩], by omega, by simp [hlk], by go_num, rfl, HR4, HM3, HR5⟩
    case measure => simp [intOf]; omega

end Go.Proofs.YtjaihnmhojabfaaGreatDoor

namespace Go.Proofs.YtjaihnmhojabfaaGreatDoor
open Go.RowKit
set_option linter.unusedVariables false

theorem put_mk (t : Array Value) (d : List Deferred) (i : Tmp) (v : Value) : Act.put ⟨t, d⟩ (some i) v = ⟨t.setIfInBounds i v, d⟩ := rfl

theorem all_zero {S : Nat → Prop} : ∀ i, i < 0 → S i := fun i h => absurd h (by omega)
theorem all_succ {S : Nat → Prop} {n : Nat} (h : ∀ i, i < n → S i) (hn : S n) : ∀ i, i < n + 1 → S i := fun i hi => by
  by_cases e : i = n
  · subst e
    exact hn
  · exact h i (by omega)

/-- What is known of a value, and stays so when what was there is as it was. -/
structure Stay where
  p : Value → World → Prop
  mono : ∀ {v w w'}, p v w → Below w.heap.size w w' → p v w'

def Stay.free : Stay := ⟨fun _ _ => True, fun _ _ => trivial⟩
def Stay.val (c : Value) : Stay := ⟨fun v _ => v = c, fun h _ => h⟩

/-- What an operation is asked that came to this. -/
def growsUpon (P : Program) (R : Value → World → Prop) (w : World) : Result Next → Prop
  | .ok (.value v) w' => Below w.heap.size w w' ∧ R v w'
  | .ok .skip w' => Below w.heap.size w w' ∧ R undef w'
  | .ok (.enter f args) w' => Calls P f args w' fun e w'' => ∃ v, e = .returned v ∧ Below w.heap.size w w'' ∧ R v w''
  | .ok (.row row args) w' => Rows P row args w' fun v w'' => Below w.heap.size w w'' ∧ R v w''
  | _ => False

section
variable {P : Program}

theorem put_get {a : Act} {d : Tmp} (hd : d < a.tmps.size) {u v : Value} (h : a.put (some d) u = a.put (some d) v) : u = v := by
  have h1 : (a.tmps.setIfInBounds d u)[d]? = (a.tmps.setIfInBounds d v)[d]? := congrArg (fun x : Act => x.tmps[d]?) h
  rw [Array.getElem?_setIfInBounds_self_of_lt hd, Array.getElem?_setIfInBounds_self_of_lt hd] at h1
  exact Option.some.inj h1

/-- An operation walked alone. -/
theorem grows_of_wp {o : Oper} {d : Tmp} {a : Act} {w : World} {R : Value → World → Prop} (hd : o.dst = some d) (hs : d < a.tmps.size) (hg : o.guard = none)
    (h : ∀ K : Act → World → Prop, (∀ v w', Below w.heap.size w w' → R v w' → K (a.put o.dst v) w') → wpList P #[o] (fun e a w => e = .normal ∧ K a w) [o] a w) :
    growsUpon P R w ((execOp a.eval o).run P w) := by
  have h1 := h (fun a' w' => ∃ v, a' = a.put o.dst v ∧ Below w.heap.size w w' ∧ R v w') (fun v w' hb hr => ⟨v, rfl, hb, hr⟩)
  unfold wpList at h1
  rw [if_pos (by simp [Region.wanted, hg])] at h1
  rcases h1 with h1 | ⟨_, x, y, h1, _⟩
  case inr => cases h1
  unfold Oper.wp at h1
  generalize (execOp a.eval o).run P w = r at *
  cases r with
  | ok n w' =>
    cases n <;> simp only [Oper.upon, wpList] at h1 <;> simp only [growsUpon]
    case value u =>
      obtain ⟨_, v, e, hb, hr⟩ := h1
      rw [hd] at e
      rw [put_get hs e]
      exact ⟨hb, hr⟩
    case skip =>
      obtain ⟨_, v, e, hb, hr⟩ := h1
      rw [hd] at e
      rw [put_get hs e]
      exact ⟨hb, hr⟩
    case enter f args =>
      refine h1.mono fun e w'' he => ?_
      cases e with
      | returned u =>
        obtain ⟨_, v, e, hb, hr⟩ := he
        rw [hd] at e
        exact ⟨v, by rw [put_get hs e], hb, hr⟩
      | panicked c => cases he.1
      | outgrown => obtain ⟨x, y, h1, _⟩ := he; cases h1
    case row row args =>
      refine h1.mono fun u w'' he => ?_
      obtain ⟨_, v, e, hb, hr⟩ := he
      rw [hd] at e
      rw [put_get hs e]
      exact ⟨hb, hr⟩
    case defer dd =>
      obtain ⟨_, v, e, hb, hr⟩ := h1
      rw [hd] at e
      have h2 : dd :: a.defers = a.defers := congrArg Act.defers e
      exact absurd (congrArg List.length h2) (by simp)
  | halt x w' =>
    cases x <;> simp only [Oper.upon] at h1 <;> first | exact h1 | cases h1.1

theorem wp_of_grows {o : Oper} {a b : Act} {w : World} {R : Value → World → Prop} {K : Act → World → Prop} {Q : Exit → Act → World → Prop} (he : execOp a.eval o = execOp b.eval o)
    (h : growsUpon P R w ((execOp b.eval o).run P w)) (hK : ∀ v w', Below w.heap.size w w' → R v w' → K (a.put o.dst v) w') : o.wp P a w K Q := by
  unfold Oper.wp
  rw [he]
  generalize (execOp b.eval o).run P w = r at *
  cases r with
  | ok n w' =>
    cases n <;> simp only [growsUpon] at h <;> simp only [Oper.upon]
    case value u => exact hK _ _ h.1 h.2
    case skip => exact hK _ _ h.1 h.2
    case enter f args =>
      refine h.mono fun e w'' he => ?_
      obtain ⟨v, rfl, hb, hr⟩ := he
      exact hK _ _ hb hr
    case row row args => exact h.mono fun u w'' he => hK _ _ he.1 he.2
  | halt x w' => simp only [growsUpon] at h

/-- The values of the listed ones laid into their slots, in the order of the text. -/
def putsL (ops : Array Oper) (L : Nat → Bool) (vs : Nat → Value) (a : Act) : Nat → Act
  | 0 => a
  | k + 1 => if L k then (putsL ops L vs a k).put ((ops[k]?).bind (·.dst)) (vs k) else putsL ops L vs a k

def dstOf (ops : Array Oper) (i : Nat) : Option Tmp := (ops[i]?).bind (·.dst)

/-- The bounds of such a region. -/
def growB (ops : Array Oper) (n size : Nat) : Bool :=
  Region.noSelect ops && decide (n < ops.size) && Region.sinkB .any ops n && Region.chainB .any ops n &&
  Region.seqB .any ops (ops.size - n) n ((List.range n).foldl (fun l i => l.setIfInBounds i true) (Array.replicate ops.size false)) &&
  ((List.range n).all fun i => match ops[i]? with
    | some o => o.guard.isNone && (match o.dst with | some d => decide (d < size) | none => false) && (o.after.all fun e => !Region.binds .any e || decide (e.on < i)) &&
      ((List.range n).all fun j => decide (i = j) || (dstOf ops i != dstOf ops j && (match dstOf ops j with | some d => !(o.looksAt ops).contains d || (decide (j < i) && Region.waitsFor .any ops i j) | none => false)))
    | none => false)

section
variable {ops : Array Oper}

theorem putsL_congr {L L' : Nat → Bool} {vs vs' : Nat → Value} {a : Act} : ∀ k, (∀ j, j < k → L j = L' j ∧ (L j = true → vs j = vs' j)) → putsL ops L vs a k = putsL ops L' vs' a k
  | 0, _ => rfl
  | k + 1, h => by
    obtain ⟨h1, h2⟩ := h k (by omega)
    have ih := putsL_congr (a := a) k (fun j hj => h j (by omega))
    unfold putsL
    rw [ih, ← h1]
    by_cases hL : L k = true
    · rw [if_pos hL, if_pos hL, h2 hL]
    · rw [if_neg hL, if_neg hL]

theorem putsL_size {L : Nat → Bool} {vs : Nat → Value} {a : Act} : ∀ k, (putsL ops L vs a k).tmps.size = a.tmps.size
  | 0 => rfl
  | k + 1 => by
    unfold putsL
    split
    · cases (ops[k]?).bind (·.dst) <;> simp [Act.put, putsL_size k]
    · exact putsL_size k

/-- One more value, put last: it might have been put in its turn. -/
theorem putsL_put {L : Nat → Bool} {vs : Nat → Value} {a : Act} {n i : Nat} {v : Value} (hL : L i = false) (hne : ∀ j, j < n → j ≠ i → ∀ d, dstOf ops j = some d → dstOf ops i ≠ some d) :
    ∀ k, k ≤ n → (i < k → (putsL ops L vs a k).put (dstOf ops i) v = putsL ops (fun j => L j || decide (j = i)) (fun j => if j = i then v else vs j) a k) ∧ (k ≤ i → putsL ops L vs a k = putsL ops (fun j => L j || decide (j = i)) (fun j => if j = i then v else vs j) a k)
  | 0, _ => ⟨fun h => by omega, fun _ => rfl⟩
  | k + 1, hkn => by
    obtain ⟨h1, h2⟩ := putsL_put (a := a) (vs := vs) (v := v) hL hne k (by omega)
    refine ⟨fun h => ?_, fun h => ?_⟩
    · by_cases hki : k = i
      · subst hki
        unfold putsL
        rw [if_neg (by rw [hL]; simp), if_pos (by simp), if_pos rfl, h2 (Nat.le_refl _)]
        rfl
      · have h3 := h1 (by omega)
        unfold putsL
        by_cases hLk : L k = true
        · rw [if_pos hLk, if_pos (by simp [hLk]), if_neg hki, ← h3]
          exact Act.put_comm _ _ _ (fun d hd => hne k (by omega) hki d hd)
        · rw [if_neg hLk, if_neg (by simp [hLk, hki])]
          exact h3
    · unfold putsL
      have hki : k ≠ i := by omega
      rw [h2 (by omega)]
      by_cases hLk : L k = true
      · rw [if_pos hLk, if_pos (by simp [hLk]), if_neg hki]
      · rw [if_neg hLk, if_neg (by simp [hLk, hki])]

theorem eval_putsL {L L' : Nat → Bool} {vs vs' : Nat → Value} {a : Act} {x : Operand} : ∀ k, (∀ j, j < k → (∀ d, dstOf ops j = some d → x ≠ .tmp d) ∨ (L j = L' j ∧ vs j = vs' j)) → (putsL ops L vs a k).eval x = (putsL ops L' vs' a k).eval x
  | 0, _ => rfl
  | k + 1, h => by
    have ih := eval_putsL (a := a) k (fun j hj => h j (by omega))
    unfold putsL
    rcases h k (by omega) with h1 | ⟨h1, h2⟩
    · have e : ∀ b v, (Act.put b ((ops[k]?).bind (·.dst)) v).eval x = b.eval x := fun b v => Act.eval_put h1
      have e1 : ∀ (c : Bool) (b : Act) (v : Value), (if c = true then Act.put b ((ops[k]?).bind (·.dst)) v else b).eval x = b.eval x := fun c b v => by
        cases c
        · rfl
        · exact e b v
      rw [e1, e1, ih]
    · rw [h1, h2]
      by_cases hL : L' k = true
      · rw [if_pos hL, if_pos hL]
        cases hd : (ops[k]?).bind (·.dst) with
        | none => exact ih
        | some d =>
          cases x with
          | tmp t =>
            by_cases ht : d = t
            · subst ht
              by_cases hlt : d < a.tmps.size
              · simp [Act.eval, Act.put, putsL_size, hlt]
              · simp [Act.eval, Act.put, putsL_size, hlt]
            · rw [Act.eval_put (fun d' hd' => by injection hd' with hd'; subst hd'; intro e; injection e with e; exact ht e.symm), Act.eval_put (fun d' hd' => by injection hd' with hd'; subst hd'; intro e; injection e with e; exact ht e.symm)]
              exact ih
          | _ => rfl
      · rw [if_neg hL, if_neg hL]
        exact ih

theorem foldl_set_get (n j : Nat) : ∀ (L : Array Bool), n ≤ L.size → ((List.range n).foldl (fun l i => l.setIfInBounds i true) L).getD j false = (decide (j < n) || L.getD j false) ∧ ((List.range n).foldl (fun l i => l.setIfInBounds i true) L).size = L.size := by
  induction n with
  | zero => intro L _; simp
  | succ n ih =>
    intro L hL
    obtain ⟨h1, h2⟩ := ih L (by omega)
    rw [List.range_succ, List.foldl_append, List.foldl_cons, List.foldl_nil]
    refine ⟨?_, by rw [Array.size_setIfInBounds, h2]⟩
    by_cases hj : n = j
    · subst hj
      have h3 : n < ((List.range n).foldl (fun l i => l.setIfInBounds i true) L).size := by rw [h2]; omega
      simp only [Array.getD_eq_getD_getElem?]
      rw [Array.getElem?_setIfInBounds_self_of_lt h3]
      simp
    · rw [getD_set_ne false hj, h1]
      congr 1
      simp only [decide_eq_decide]
      omega

/-- How many of the first n are not listed. -/
def unlisted (listed : Array Bool) (n : Nat) : Nat := ((List.range n).filter fun i => !listed.getD i false).length

theorem unlisted_set {listed : Array Bool} {n i : Nat} (hi : i < n) (hs : i < listed.size) (hl : listed.getD i false = false) : unlisted listed n = unlisted (listed.setIfInBounds i true) n + 1 := by
  induction n with
  | zero => omega
  | succ n ih =>
    unfold unlisted at *
    rw [List.range_succ, List.filter_append, List.filter_append, List.length_append, List.length_append]
    by_cases h : i = n
    · subst h
      have e : (List.range i).filter (fun j => !listed.getD j false) = (List.range i).filter (fun j => !(listed.setIfInBounds i true).getD j false) := by
        refine List.filter_congr fun j hj => ?_
        rw [getD_set_ne false (by have := List.mem_range.1 hj; omega)]
      rw [e]
      have h1 : (listed.setIfInBounds i true).getD i false = true := by
        rw [Array.getD_eq_getD_getElem?, Array.getElem?_setIfInBounds_self_of_lt hs]
        rfl
      rw [List.filter_cons, List.filter_cons, hl, h1]
      simp
    · have h2 := ih (by omega)
      rw [h2]
      simp only [List.filter_cons, List.filter_nil]
      rw [getD_set_ne false h]
      omega

theorem unlisted_zero {listed : Array Bool} {n : Nat} (h : unlisted listed n = 0) : ∀ j, j < n → listed.getD j false = true := fun j hj => by
  have h1 : (List.range n).filter (fun i => !listed.getD i false) = [] := List.length_eq_zero_iff.1 h
  have h2 := List.filter_eq_nil_iff.1 h1 j (List.mem_range.2 hj)
  simpa using h2

/-- The least of them. -/
theorem unlisted_least {listed : Array Bool} : ∀ {n : Nat}, unlisted listed n ≠ 0 → ∃ i, i < n ∧ listed.getD i false = false ∧ ∀ j, j < i → listed.getD j false = true := by
  intro n h
  have h1 : ∃ i, i < n ∧ listed.getD i false = false := by
    apply Classical.byContradiction
    intro hno
    apply h
    unfold unlisted
    rw [List.length_eq_zero_iff, List.filter_eq_nil_iff]
    intro i hi
    have := List.mem_range.1 hi
    cases hb : listed.getD i false with
    | true => simp
    | false => exact absurd ⟨i, this, hb⟩ hno
  obtain ⟨i, hi, hb⟩ := h1
  induction i using Nat.strongRecOn with
  | _ i ih =>
    by_cases hc : ∃ j, j < i ∧ listed.getD j false = false
    · obtain ⟨j, hj, hb'⟩ := hc
      exact ih j hj (by omega) hb'
    · refine ⟨i, hi, hb, fun j hj => ?_⟩
      cases hb' : listed.getD j false with
      | true => rfl
      | false => exact absurd ⟨j, hj, hb'⟩ hc

/-- What growB says of one of the first n. -/
theorem growB_at {n size i : Nat} (hB : growB ops n size = true) (hi : i < n) : ∃ o d, ops[i]? = some o ∧ o.guard = none ∧ o.dst = some d ∧ d < size ∧ (∀ e ∈ o.after, Region.binds .any e = true → e.on < i) ∧
    (∀ j, j < n → i ≠ j → dstOf ops i ≠ dstOf ops j) ∧ (∀ j, j < n → i ≠ j → ∀ d, dstOf ops j = some d → d ∈ o.looksAt ops → j < i ∧ Region.waitsFor .any ops i j = true) := by
  simp only [growB, Bool.and_eq_true] at hB
  have h := List.all_eq_true.1 hB.2 i (List.mem_range.2 hi)
  cases ho : ops[i]? with
  | none => rw [ho] at h; simp at h
  | some o =>
    rw [ho] at h
    simp only [Bool.and_eq_true] at h
    obtain ⟨⟨⟨h1, h2⟩, h3⟩, h4⟩ := h
    cases hd : o.dst with
    | none => rw [hd] at h2; simp at h2
    | some d =>
      rw [hd] at h2
      refine ⟨o, d, rfl, by simpa using h1, hd, by simpa using h2, fun e he hb => ?_, fun j hj hij => ?_, fun j hj hij d' hd' hm => ?_⟩
      · have := Array.all_eq_true'.1 h3 e he
        rw [hb] at this
        simpa using this
      · have := List.all_eq_true.1 h4 j (List.mem_range.2 hj)
        simp only [Bool.or_eq_true, decide_eq_true_eq, Bool.and_eq_true] at this
        rcases this with h5 | h5
        · exact absurd h5 hij
        · simpa using h5.1
      · have := List.all_eq_true.1 h4 j (List.mem_range.2 hj)
        simp only [Bool.or_eq_true, decide_eq_true_eq, Bool.and_eq_true] at this
        rcases this with h5 | h5
        · exact absurd h5 hij
        · have h6 := h5.2
          rw [hd'] at h6
          simp only [Bool.or_eq_true, Bool.and_eq_true, decide_eq_true_eq] at h6
          rcases h6 with h6 | h6
          · have : (Oper.looksAt ops o).contains d' = true := List.contains_iff_mem.2 hm
            rw [this] at h6
            simp at h6
          · exact h6

/-- The first n in whatever order, then those behind them. -/
theorem wpAny_grow {n : Nat} {R : Nat → Stay} {Q : Exit → Act → World → Prop} {a : Act} {w0 : World} (hB : growB ops n a.tmps.size = true)
    (hop : ∀ i, i < n → ∀ o, ops[i]? = some o → ∀ vs w, Below w0.heap.size w0 w → (∀ j, j < i → Region.waitsFor .any ops i j = true → (R j).p (vs j) w) →
      growsUpon P (R i).p w ((execOp (putsL ops (fun j => decide (j < i)) vs a n).eval o).run P w))
    (hend : ∀ vs w, Below w0.heap.size w0 w → (∀ j, j < n → (R j).p (vs j) w) → wpList P ops Q (ops.toList.drop n) (putsL ops (fun _ => true) vs a n) w) :
    ∀ (m : Nat) (listed : Array Bool) (vs : Nat → Value) (w : World), unlisted listed n = m → HeadInv .any ops n listed → Below w0.heap.size w0 w → (∀ j, j < n → listed.getD j false = true → (R j).p (vs j) w) →
      wpAny P .any ops Q (m + (ops.size - n)) listed (putsL ops (fun j => listed.getD j false) vs a n) w := by
  have hB0 := hB
  simp only [growB, Bool.and_eq_true, decide_eq_true_eq] at hB0
  obtain ⟨⟨⟨⟨⟨hsel, hn⟩, hs⟩, hc⟩, hseq⟩, -⟩ := hB0
  intro m
  induction m with
  | zero =>
    intro listed vs w hu inv hb hr
    have hall := unlisted_zero hu
    have hlen : (ops.toList.drop n).length = ops.size - n := by simp
    have hl : listed = (List.range n).foldl (fun l i => l.setIfInBounds i true) (Array.replicate ops.size false) := by
      obtain ⟨-, h2⟩ := foldl_set_get n 0 (Array.replicate ops.size false) (by simp; omega)
      apply Array.ext
      · rw [h2, inv.size]; simp
      · intro j hj hj'
        have e1 : listed.getD j false = listed[j] := by simp [hj]
        have e2 := (foldl_set_get n j (Array.replicate ops.size false) (by simp; omega)).1
        have e3 : ((List.range n).foldl (fun l i => l.setIfInBounds i true) (Array.replicate ops.size false)).getD j false = ((List.range n).foldl (fun l i => l.setIfInBounds i true) (Array.replicate ops.size false))[j] := by simp only [Array.getD_eq_getD_getElem?, Array.getElem?_eq_getElem hj', Option.getD_some]
        rw [← e1, ← e3, e2, getD_replicate_false, Bool.or_false]
        by_cases hjn : j < n
        · rw [hall j hjn, decide_eq_true hjn]
        · rw [decide_eq_false hjn]
          exact getD_both (inv.tail j (by omega) (by rw [inv.size] at hj; exact hj))
    rw [Nat.zero_add, ← hlen]
    refine wpAny_of_seq (ops.toList.drop n) n listed _ w (fun j => by rw [List.getElem?_drop]; simp) (by rw [hlen, hl]; exact hseq) ?_
    rw [putsL_congr (L' := fun _ => true) (vs' := vs) n (fun j hj => ⟨hall j hj, fun _ => rfl⟩)]
    exact hend vs w hb (fun j hj => hr j hj (hall j hj))
  | succ m ih =>
    intro listed vs w hu inv hb hr
    rw [show m + 1 + (ops.size - n) = (m + (ops.size - n)) + 1 by omega]
    obtain ⟨k, hk, hkl, hkb⟩ := unlisted_least (listed := listed) (n := n) (by omega)
    have hks : k < listed.size := by rw [inv.size]; omega
    refine ⟨fun h0 => ?_, fun i hi => ?_⟩
    · obtain ⟨o, d, ho, _, _, _, haf, _, _⟩ := growB_at hB hk
      have : k ∈ Region.ready .any ops listed := mem_ready.2 ⟨getD_in hks hkl, o, ho, fun e he hbd => hkb _ (haf e he hbd)⟩
      rw [h0] at this
      cases this
    · obtain ⟨hiun, oi, hoi, hall⟩ := mem_ready.1 hi
      have hin : i < n := by
        rcases Nat.lt_or_ge i n with h | h
        · exact h
        · exact absurd hi (tail_waits hs hc hn inv _ k rfl hk (getD_in hks hkl) i h)
      obtain ⟨o, d, ho, hg, hd, hds, haf, hdn, hlk⟩ := growB_at hB hin
      obtain rfl : oi = o := Option.some.inj (hoi.symm.trans ho)
      have hilf : listed.getD i false = false := getD_both hiun
      have his : i < listed.size := by rw [inv.size]; omega
      unfold wpOp
      simp only [hoi]
      rw [if_pos (by simp [Region.wanted, hg])]
      refine .inl (wp_of_grows (b := putsL ops (fun j => decide (j < i)) vs a n) (R := (R i).p) ?_ (hop i hin oi hoi vs w hb fun j hj hw => ?_) ?_)
      · refine execOp_congr oi (fun cs b => Region.noSelect_spec hsel i oi cs b hoi) fun x hx => eval_putsL n fun j hj => ?_
        by_cases hd' : ∀ d, dstOf ops j = some d → x ≠ .tmp d
        · exact .inl hd'
        · refine .inr ⟨?_, rfl⟩
          have hd2 : ∃ d, dstOf ops j = some d ∧ x = .tmp d := by
            apply Classical.byContradiction
            intro hno
            exact hd' fun d hd hx => hno ⟨d, hd, hx⟩
          obtain ⟨d', hj', rfl⟩ := hd2
          by_cases hij : i = j
          · subst hij
            rw [hilf, decide_eq_false (by omega)]
          · obtain ⟨hji, hw⟩ := hlk j hj hij d' hj' (List.mem_append_left _ (List.mem_filterMap.2 ⟨.tmp d', by simpa using hx, rfl⟩))
            obtain ⟨o', ho', e, he, hbd, hon⟩ := Region.waitsFor_spec hw
            obtain rfl : oi = o' := Option.some.inj (hoi.symm.trans ho')
            have := hall e he hbd
            rw [hon] at this
            rw [this, decide_eq_true hji]
      · obtain ⟨o', ho', e, he, hbd, hon⟩ := Region.waitsFor_spec hw
        obtain rfl : oi = o' := Option.some.inj (hoi.symm.trans ho')
        have := hall e he hbd
        rw [hon] at this
        exact hr j (by omega) this
      · intro v w' hbw hrv
        have hdo : dstOf ops i = oi.dst := by simp [dstOf, hoi]
        have hb' : Below w0.heap.size w0 w' := hb.trans (hbw.mono hb.size)
        have hput := (putsL_put (ops := ops) (L := fun j => listed.getD j false) (vs := vs) (a := a) (i := i) (v := v) (n := n) hilf (fun j hjn hj d' hd' => fun h => hdn j hjn (Ne.symm hj) (by rw [hd', h])) n (Nat.le_refl _)).1 hin
        rw [← hdo, hput]
        have e := putsL_congr (ops := ops) (L := fun j => listed.getD j false || decide (j = i)) (L' := fun j => (listed.setIfInBounds i true).getD j false) (vs := fun j => if j = i then v else vs j) (vs' := fun j => if j = i then v else vs j) (a := a) n (fun j hj => ⟨by
          by_cases hji : j = i
          · subst hji
            rw [Array.getD_eq_getD_getElem? (xs := listed.setIfInBounds j true), Array.getElem?_setIfInBounds_self_of_lt his]
            simp
          · rw [getD_set_ne false (Ne.symm hji)]
            simp [hji], fun _ => rfl⟩)
        rw [e]
        refine ih _ _ w' (by have := unlisted_set hin his hilf; omega) (inv.set hi hin) hb' fun j hj hl => ?_
        by_cases hji : j = i
        · subst hji
          rw [if_pos rfl]
          exact hrv
        · rw [if_neg hji]
          rw [getD_set_ne false (Ne.symm hji)] at hl
          exact (R j).mono (hr j hj hl) hbw
end

/-- The first i put in the order of the text. -/
def putsT : List Oper → (Nat → Value) → Act → Nat → Act
  | [], _, a, _ => a
  | o :: l, vs, a, k => putsT l vs (a.put o.dst (vs k)) (k + 1)

theorem putsT_snoc : ∀ (l : List Oper) (o : Oper) (vs : Nat → Value) (a : Act) (k : Nat), putsT (l ++ [o]) vs a k = (putsT l vs a k).put o.dst (vs (k + l.length))
  | [], _, _, _, _ => rfl
  | p :: l, o, vs, a, k => by
    rw [List.cons_append, putsT, putsT, putsT_snoc l o vs _ (k + 1), List.length_cons, show k + 1 + l.length = k + (l.length + 1) by omega]

theorem putsL_text {l : List Oper} {vs : Nat → Value} {a : Act} {i : Nat} : ∀ n, i ≤ n → n ≤ l.length → putsL l.toArray (fun j => decide (j < i)) vs a n = putsT (l.take i) vs a 0
  | 0, hi, _ => by
    obtain rfl : i = 0 := by omega
    rfl
  | n + 1, hi, hl => by
    by_cases h : i = n + 1
    · subst h
      unfold putsL
      rw [if_pos (by simp), putsL_congr (L' := fun j => decide (j < n)) (vs' := vs) n (fun j hj => ⟨by simp [hj]; omega, fun _ => rfl⟩), putsL_text n (Nat.le_refl _) (by omega)]
      have hn : n < l.length := by omega
      rw [List.take_succ_eq_append_getElem hn, putsT_snoc, Nat.zero_add, List.length_take, Nat.min_eq_left (by omega)]
      simp [hn]
    · unfold putsL
      rw [if_neg (by simp; omega)]
      exact putsL_text n (by omega) (by omega)

/-- A region that draws: what each of the first n is asked, in whatever world it may come up; what is behind them. -/
theorem wp_region_grow {id : Nat} {Q : Exit → Act → World → Prop} {a : Act} {w : World} {l : List Oper} (n : Nat) (R : List Stay) (hm : P.follows .mixedOrders = true) (hB : growB l.toArray n a.tmps.size = true)
    (hop : ∀ i, i < n → ∀ o, l[i]? = some o → ∀ (vs : Nat → Value) (w' : World), Below w.heap.size w w' → (∀ j, j < i → Region.waitsFor .any l.toArray i j = true → (R.getD j Stay.free).p (vs j) w') →
      ∀ K : Act → World → Prop, (∀ v w'', Below w'.heap.size w' w'' → (R.getD i Stay.free).p v w'' → K ((putsT (l.take i) vs a 0).put o.dst v) w'') → wpList P #[o] (fun e a w => e = .normal ∧ K a w) [o] (putsT (l.take i) vs a 0) w')
    (hend : ∀ (vs : Nat → Value) (w' : World), Below w.heap.size w w' → (∀ j, j < n → (R.getD j Stay.free).p (vs j) w') → wpList P l.toArray Q (l.drop n) (putsT (l.take n) vs a 0) w') :
    (Code.region id l.toArray true).wp P Q a w := by
  have hn : n < l.length := by
    have h := hB
    simp only [growB, Bool.and_eq_true, decide_eq_true_eq] at h
    simpa using h.1.1.1.1.2
  have hd : Below w.heap.size w w.drew := (Below.refl _ _).drew
  refine wp_region_any hm ?_
  have inv0 : HeadInv .any l.toArray n (Array.replicate l.toArray.size false) :=
    ⟨by simp, fun j oj _ hl => (by rw [getD_replicate_false] at hl; cases hl), fun t _ ht => getD_in (by simpa using ht) (getD_replicate_false _ _)⟩
  have hu : unlisted (Array.replicate l.toArray.size false) n = n := by
    unfold unlisted
    rw [List.filter_eq_self.2 (fun j _ => by rw [getD_replicate_false]; rfl), List.length_range]
  have H := wpAny_grow (P := P) (ops := l.toArray) (n := n) (R := fun j => R.getD j Stay.free) (Q := Q) (a := a) (w0 := w.drew) hB (fun i hi o ho vs w' hb hr => by
      rw [putsL_text n (by omega) (by omega)]
      obtain ⟨o', d, ho', hg, hdo, hds, -⟩ := growB_at hB hi
      obtain rfl : o = o' := Option.some.inj (ho.symm.trans ho')
      have hsz : (putsT (l.take i) vs a 0).tmps.size = a.tmps.size := by rw [← putsL_text n (by omega) (by omega), putsL_size]
      exact grows_of_wp hdo (by rw [hsz]; exact hds) hg (hop i hi o (by simpa using ho) vs w' (hd.trans hb) hr))
    (fun vs w' hb hr => by
      rw [putsL_congr (L' := fun j => decide (j < n)) (vs' := vs) n (fun j hj => ⟨by simp [hj], fun _ => rfl⟩), putsL_text n (Nat.le_refl _) (by omega)]
      exact hend vs w' (hd.trans hb) hr)
    n (Array.replicate l.toArray.size false) (fun _ => undef) w.drew hu inv0 (Below.refl _ _) (fun j hj h => by rw [getD_replicate_false] at h; cases h)
  rw [show n + (l.toArray.size - n) = l.toArray.size by simp; omega] at H
  rw [putsL_congr (L' := fun j => decide (j < 0)) (vs' := fun _ => undef) n (fun j hj => ⟨by rw [getD_replicate_false]; simp, fun _ => rfl⟩), putsL_text n (Nat.zero_le _) (by omega)] at H
  exact H
end

end Go.Proofs.YtjaihnmhojabfaaGreatDoor

namespace Go.Proofs.YtjaihnmhojabfaaGreatDoor
open Go.RowKit
set_option linter.unusedVariables false

set_option maxRecDepth 10000 in
set_option maxHeartbeats 3200000 in
theorem implScopy_any (a : Option Addr) (n ca : Nat) (X : List ByteArray) (a' : Option Addr) (n' ca' : Nat) (Y : List ByteArray) (ep nx : Int) (ua : Option Addr) (un uc lo : Nat) (l : List UE) (w : World) (h1 : Strs w a n X) (h2 : Strs w a' n' Y) (hn : n ≤ 1048576) (hn' : n' ≤ 1048576) (hu : UpRow w lo (.slice ua un uc) l) (hun : un = l.length) (hul : un ≤ 1048576) (hz : ∀ e ∈ l, e.n ≤ 1099511627776) :
    Calls Tryz.prog 37 #[.agg #[.slice a n ca, .slice a' n' ca', .int .i64 ep, .int .i64 nx, .slice ua un uc]] w fun e w' => (∃ v, e = .returned v ∧ AnsS w.heap.size X Y ep nx (l.map UE.u) v w') ∧ Below w.heap.size w w' := by
  have HLn : Hid (un = l.length ∧ ∀ e ∈ l, e.n ≤ 1099511627776) := ⟨hun, hz⟩
  have HLen : Hid (∀ l2 : List UE, l2.map UE.u = l.map UE.u → un = l2.length) := fun l2 h => by have := congrArg List.length h; simp at this; rw [hun, this]
  obtain ⟨W2, hW2⟩ : ∃ W2, (w.alloc (.cells #[.slice a n ca, .slice a' n' ca', .int .i64 ep, .int .i64 nx, .slice ua un uc] 29)).alloc (.cells #[.slice none 0 0, .slice none 0 0, .int .i64 0, .int .i64 0, .slice none 0 0] 29) = W2 := ⟨_, rfl⟩
  have HE : Hid ((w.alloc (.cells #[.slice a n ca, .slice a' n' ca', .int .i64 ep, .int .i64 nx, .slice ua un uc] 29)).alloc (.cells #[.slice none 0 0, .slice none 0 0, .int .i64 0, .int .i64 0, .slice none 0 0] 29) = W2) := hW2
  have HB2 : Hid (Below w.heap.size w W2) := by show Below _ _ _; rw [← hW2]; exact ((Below.refl _ _).alloc (Nat.le_refl _) _).alloc (by simp) _
  have q1 : BoxN W2 w.heap.size 29 [.slice a n ca, .slice a' n' ca', .int .i64 ep, .int .i64 nx, .slice ua un uc] := by rw [← hW2]; exact (BoxN.new _ _ _).alloc _
  have q2 : BoxN W2 (w.heap.size + 1) 29 [.slice none 0 0, .slice none 0 0, .int .i64 0, .int .i64 0, .slice none 0 0] := by
    rw [← hW2]
    have := BoxN.new (w.alloc (.cells #[.slice a n ca, .slice a' n' ca', .int .i64 ep, .int .i64 nx, .slice ua un uc] 29)) 29 [.slice none 0 0, .slice none 0 0, .int .i64 0, .int .i64 0, .slice none 0 0]
    rwa [World.size_alloc] at this
  have HQ : Hid (∀ W, Below W2.heap.size W2 W → BoxN W w.heap.size 29 [.slice a n ca, .slice a' n' ca', .int .i64 ep, .int .i64 nx, .slice ua un uc] ∧ BoxN W (w.heap.size + 1) 29 [.slice none 0 0, .slice none 0 0, .int .i64 0, .int .i64 0, .slice none 0 0]) := fun W h => ⟨q1.stays h, q2.stays h⟩
  have HX : Hid (∀ W, Below W2.heap.size W2 W → Strs W a n X ∧ Strs W a' n' Y ∧ UpRow W lo (.slice ua un uc) l) := fun W h => by
    have hw := HB2.out.trans (h.mono HB2.out.size)
    exact ⟨h1.below hw, h2.below hw, hu.stays hw⟩
  have hs2 : w.heap.size + 1 < W2.heap.size := q2.lt
  clear hW2 q1 q2 h1 h2 hu hun hz
  go_enter Tryz.func37, Tryz.ntmps37
  go_upto_region 1 with fail
  rw [HE.out]
  clear HE
  refine wp_region_grow 11 [Stay.val (.pointer (some ⟨w.heap.size, 0, none⟩)), Stay.val (.agg #[.slice a n ca, .slice a' n' ca']), ⟨fun v W => ∃ A1 C1 A2 C2, v = .agg #[.slice A1 X.length C1, .slice A2 Y.length C2] ∧ OwnSt W W2.heap.size (.slice A1 X.length C1) X.length X ∧ OwnSt W W2.heap.size (.slice A2 Y.length C2) Y.length Y ∧ ∀ q, A1.map (·.block) = some q → A2.map (·.block) ≠ some q, fun ⟨A1, C1, A2, C2, h0, h1, h2, h3⟩ hb => ⟨A1, C1, A2, C2, h0, h1.below hb, h2.below hb, h3⟩⟩, Stay.val (.pointer (some ⟨w.heap.size, 2, none⟩)), Stay.val (.int .i64 ep), Stay.val (.pointer (some ⟨w.heap.size, 3, none⟩)), Stay.val (.int .i64 nx), Stay.val (.pointer (some ⟨w.heap.size, 4, none⟩)), Stay.val (.slice ua un uc), ⟨fun v W => ∃ va vc l2, v = .slice va un vc ∧ UpRow W W2.heap.size (.slice va un vc) l2 ∧ l2.map UE.u = l.map UE.u, fun ⟨va, vc, l2, h0, h1, h2⟩ hb => ⟨va, vc, l2, h0, h1.stays hb, h2⟩⟩, ⟨fun v W => ∃ A1 C1 A2 C2 va vc l2, v = .agg #[.slice A1 X.length C1, .slice A2 Y.length C2, .int .i64 ep, .int .i64 nx, .slice va un vc] ∧ StoAt W W2.heap.size A1 X.length C1 X A2 Y.length C2 Y va un vc l2 ∧ l2.map UE.u = l.map UE.u, fun ⟨A1, C1, A2, C2, va, vc, l2, h0, h1, h2⟩ hb => ⟨A1, C1, A2, C2, va, vc, l2, h0, h1.stays hb, h2⟩⟩] (by kernel_rfl) (by kernel_rfl) ?_ ?_
  · refine (all_succ (all_succ (all_succ (all_succ (all_succ (all_succ (all_succ (all_succ (all_succ (all_succ (all_succ all_zero ?g0) ?g1) ?g2) ?g3) ?g4) ?g5) ?g6) ?g7) ?g8) ?g9) ?g10)
    case g0 =>
      intro o ho vs W hb hd
      have HBW : Hid (Below w.heap.size w W) := HB2.out.trans (hb.mono HB2.out.size)
      have HS : Hid (W2.heap.size ≤ W.heap.size) := hb.size
      have HXW : Hid (Below W2.heap.size W2 W) := hb
      clear hb
      obtain rfl := Option.some.inj ho
      clear ho hd
      intro K hK
      simp only [List.take, putsT, put_mk, List.setIfInBounds_toArray, List.set_cons_succ, List.set_cons_zero] at hK ⊢
      have HK : Hid _ := hK
      clear hK
      go_wp2_with fail
      exact HK.out _ _ (Below.refl _ _) rfl
    case g1 =>
      intro o ho vs W hb hd
      have HBW : Hid (Below w.heap.size w W) := HB2.out.trans (hb.mono HB2.out.size)
      have HS : Hid (W2.heap.size ≤ W.heap.size) := hb.size
      have HXW : Hid (Below W2.heap.size W2 W) := hb
      clear hb
      obtain rfl := Option.some.inj ho
      have h0 : vs 0 = _ := hd 0 (by decide) (by kernel_rfl)
      clear ho hd
      have hq := (HQ.out _ HXW.out).1
      have c0 := hq.cell 0 rfl
      have c1 := hq.cell 1 rfl
      clear hq
      intro K hK
      simp only [List.take, putsT, put_mk, List.setIfInBounds_toArray, List.set_cons_succ, List.set_cons_zero] at hK ⊢
      rw [h0] at hK ⊢
      clear h0
      have HK : Hid _ := hK
      clear hK
      go_wp2_with fail
      exact HK.out _ _ (Below.refl _ _) rfl
    case g2 =>
      intro o ho vs W hb hd
      have HBW : Hid (Below w.heap.size w W) := HB2.out.trans (hb.mono HB2.out.size)
      have HS : Hid (W2.heap.size ≤ W.heap.size) := hb.size
      have HXW : Hid (Below W2.heap.size W2 W) := hb
      clear hb
      obtain rfl := Option.some.inj ho
      have h1 : vs 1 = _ := hd 1 (by decide) (by kernel_rfl)
      clear ho hd
      intro K hK
      simp only [List.take, putsT, put_mk, List.setIfInBounds_toArray, List.set_cons_succ, List.set_cons_zero] at hK ⊢
      rw [h1] at hK ⊢
      clear h1
      have HK : Hid _ := hK
      clear hK
      go_wp2_with fail
      refine (implDcopy_any a n ca X a' n' ca' Y W (HX.out _ HXW.out).1 (HX.out _ HXW.out).2.1 (by omega) (by omega)).mono ?_
      rintro e w' ⟨⟨v1, rfl, A1, C1, A2, C2, rfl, own1, own1', hap⟩, hb1⟩
      go_wp2_with fail
      exact HK.out _ _ hb1 ⟨_, _, _, _, rfl, own1.low HS.out, own1'.low HS.out, hap⟩
    case g3 =>
      intro o ho vs W hb hd
      have HBW : Hid (Below w.heap.size w W) := HB2.out.trans (hb.mono HB2.out.size)
      have HS : Hid (W2.heap.size ≤ W.heap.size) := hb.size
      have HXW : Hid (Below W2.heap.size W2 W) := hb
      clear hb
      obtain rfl := Option.some.inj ho
      clear ho hd
      intro K hK
      simp only [List.take, putsT, put_mk, List.setIfInBounds_toArray, List.set_cons_succ, List.set_cons_zero] at hK ⊢
      have HK : Hid _ := hK
      clear hK
      go_wp2_with fail
      exact HK.out _ _ (Below.refl _ _) rfl
    case g4 =>
      intro o ho vs W hb hd
      have HBW : Hid (Below w.heap.size w W) := HB2.out.trans (hb.mono HB2.out.size)
      have HS : Hid (W2.heap.size ≤ W.heap.size) := hb.size
      have HXW : Hid (Below W2.heap.size W2 W) := hb
      clear hb
      obtain rfl := Option.some.inj ho
      have h3 : vs 3 = _ := hd 3 (by decide) (by kernel_rfl)
      clear ho hd
      have hq := (HQ.out _ HXW.out).1
      have c2 := hq.cell 2 rfl
      clear hq
      intro K hK
      simp only [List.take, putsT, put_mk, List.setIfInBounds_toArray, List.set_cons_succ, List.set_cons_zero] at hK ⊢
      rw [h3] at hK ⊢
      clear h3
      have HK : Hid _ := hK
      clear hK
      go_wp2_with fail
      exact HK.out _ _ (Below.refl _ _) rfl
    case g5 =>
      intro o ho vs W hb hd
      have HBW : Hid (Below w.heap.size w W) := HB2.out.trans (hb.mono HB2.out.size)
      have HS : Hid (W2.heap.size ≤ W.heap.size) := hb.size
      have HXW : Hid (Below W2.heap.size W2 W) := hb
      clear hb
      obtain rfl := Option.some.inj ho
      clear ho hd
      intro K hK
      simp only [List.take, putsT, put_mk, List.setIfInBounds_toArray, List.set_cons_succ, List.set_cons_zero] at hK ⊢
      have HK : Hid _ := hK
      clear hK
      go_wp2_with fail
      exact HK.out _ _ (Below.refl _ _) rfl
    case g6 =>
      intro o ho vs W hb hd
      have HBW : Hid (Below w.heap.size w W) := HB2.out.trans (hb.mono HB2.out.size)
      have HS : Hid (W2.heap.size ≤ W.heap.size) := hb.size
      have HXW : Hid (Below W2.heap.size W2 W) := hb
      clear hb
      obtain rfl := Option.some.inj ho
      have h5 : vs 5 = _ := hd 5 (by decide) (by kernel_rfl)
      clear ho hd
      have hq := (HQ.out _ HXW.out).1
      have c3 := hq.cell 3 rfl
      clear hq
      intro K hK
      simp only [List.take, putsT, put_mk, List.setIfInBounds_toArray, List.set_cons_succ, List.set_cons_zero] at hK ⊢
      rw [h5] at hK ⊢
      clear h5
      have HK : Hid _ := hK
      clear hK
      go_wp2_with fail
      exact HK.out _ _ (Below.refl _ _) rfl
    case g7 =>
      intro o ho vs W hb hd
      have HBW : Hid (Below w.heap.size w W) := HB2.out.trans (hb.mono HB2.out.size)
      have HS : Hid (W2.heap.size ≤ W.heap.size) := hb.size
      have HXW : Hid (Below W2.heap.size W2 W) := hb
      clear hb
      obtain rfl := Option.some.inj ho
      clear ho hd
      intro K hK
      simp only [List.take, putsT, put_mk, List.setIfInBounds_toArray, List.set_cons_succ, List.set_cons_zero] at hK ⊢
      have HK : Hid _ := hK
      clear hK
      go_wp2_with fail
      exact HK.out _ _ (Below.refl _ _) rfl
    case g8 =>
      intro o ho vs W hb hd
      have HBW : Hid (Below w.heap.size w W) := HB2.out.trans (hb.mono HB2.out.size)
      have HS : Hid (W2.heap.size ≤ W.heap.size) := hb.size
      have HXW : Hid (Below W2.heap.size W2 W) := hb
      clear hb
      obtain rfl := Option.some.inj ho
      have h7 : vs 7 = _ := hd 7 (by decide) (by kernel_rfl)
      clear ho hd
      have hq := (HQ.out _ HXW.out).1
      have c4 := hq.cell 4 rfl
      clear hq
      intro K hK
      simp only [List.take, putsT, put_mk, List.setIfInBounds_toArray, List.set_cons_succ, List.set_cons_zero] at hK ⊢
      rw [h7] at hK ⊢
      clear h7
      have HK : Hid _ := hK
      clear hK
      go_wp2_with fail
      exact HK.out _ _ (Below.refl _ _) rfl
    case g9 =>
      intro o ho vs W hb hd
      have HBW : Hid (Below w.heap.size w W) := HB2.out.trans (hb.mono HB2.out.size)
      have HS : Hid (W2.heap.size ≤ W.heap.size) := hb.size
      have HXW : Hid (Below W2.heap.size W2 W) := hb
      clear hb
      obtain rfl := Option.some.inj ho
      have h8 : vs 8 = _ := hd 8 (by decide) (by kernel_rfl)
      clear ho hd
      intro K hK
      simp only [List.take, putsT, put_mk, List.setIfInBounds_toArray, List.set_cons_succ, List.set_cons_zero] at hK ⊢
      rw [h8] at hK ⊢
      clear h8
      have HK : Hid _ := hK
      clear hK
      go_wp2_with fail
      refine (implEachUp_any ua un uc lo l W (HX.out _ HXW.out).2.2 HLn.out.1 hul HLn.out.2).mono ?_
      rintro e w' ⟨⟨va, vc, l2, rfl, hr, hm⟩, hb1⟩
      go_wp2_with fail
      exact HK.out _ _ hb1 ⟨_, _, _, rfl, hr.low HS.out, hm⟩
    case g10 =>
      intro o ho vs W hb hd
      have HBW : Hid (Below w.heap.size w W) := HB2.out.trans (hb.mono HB2.out.size)
      have HS : Hid (W2.heap.size ≤ W.heap.size) := hb.size
      have HXW : Hid (Below W2.heap.size W2 W) := hb
      clear hb
      obtain rfl := Option.some.inj ho
      obtain ⟨A1, C1, A2, C2, h2, o1, o2, hap⟩ := hd 2 (by decide) (by kernel_rfl)
      have h4 : vs 4 = _ := hd 4 (by decide) (by kernel_rfl)
      have h6 : vs 6 = _ := hd 6 (by decide) (by kernel_rfl)
      obtain ⟨va, vc, l2, h9, hr, hm⟩ := hd 9 (by decide) (by kernel_rfl)
      clear ho hd
      have HA : Hid (StoAt W W2.heap.size A1 X.length C1 X A2 Y.length C2 Y va un vc l2) := ⟨o1, o2, hap, hr, HLen.out l2 hm⟩
      clear o1 o2 hap hr
      intro K hK
      simp only [List.take, putsT, put_mk, List.setIfInBounds_toArray, List.set_cons_succ, List.set_cons_zero] at hK ⊢
      rw [h2, h4, h6, h9] at hK ⊢
      clear h2 h4 h6 h9
      have HK : Hid _ := hK
      clear hK
      go_wp2_with fail
      exact HK.out _ _ (Below.refl _ _) ⟨_, _, _, _, _, _, _, rfl, HA.out, hm⟩
  intro vs W hb hd
  have HBW : Hid (Below w.heap.size w W) := HB2.out.trans (hb.mono HB2.out.size)
  have HS : Hid (W2.heap.size ≤ W.heap.size) := hb.size
  have HXW : Hid (Below W2.heap.size W2 W) := hb
  clear hb
  simp only [List.take, List.drop, putsT, put_mk, List.setIfInBounds_toArray, List.set_cons_succ, List.set_cons_zero]
  obtain ⟨A1, C1, A2, C2, va, vc, l2, h10, hS, hM⟩ := hd 10 (by decide)
  have h10 : vs 10 = _ := h10
  rw [h10]
  clear h10 hd HS
  have HSt : Hid (StoAt W W2.heap.size A1 X.length C1 X A2 Y.length C2 Y va un vc l2) := hS
  have HM : Hid (l2.map UE.u = l.map UE.u) := hM
  have hqr := (HQ.out _ HXW.out).2
  have r0 := hqr.cell 0 rfl
  have r1 := hqr.cell 1 rfl
  have r2 := hqr.cell 2 rfl
  have r3 := hqr.cell 3 rfl
  have r4 := hqr.cell 4 rfl
  have f0 := hqr.frozen 0
  have f1 := hqr.frozen 1
  have f2 := hqr.frozen 2
  have f3 := hqr.frozen 3
  have f4 := hqr.frozen 4
  clear hqr hS hM HXW HQ HX
  go_wp2_with fail
  refine bodyPost_ret (v := .agg #[.slice A1 X.length C1, .slice A2 Y.length C2, .int .i64 ep, .int .i64 nx, .slice va un vc]) (by simp [results, Tryz.f37, go_sem, r0, r1, r2, r3, r4]) rfl ?_
  refine ⟨⟨_, rfl, A1, X.length, C1, A2, Y.length, C2, va, un, vc, l2, rfl, ?_, HM.out⟩, ?_⟩
  · exact (((((HSt.out.setLow (by omega) _).setLow (by omega) _).setLow (by omega) _).setLow (by omega) _).setLow (by omega) _).low (by omega)
  · exact ((((HBW.out.setCell (by dsimp only; omega) _).setCell (by dsimp only; omega) _).setCell (by dsimp only; omega) _).setCell (by dsimp only; omega) _).setCell (by dsimp only; omega) _

end Go.Proofs.YtjaihnmhojabfaaGreatDoor

namespace Go.Proofs.YtjaihnmhojabfaaGreatDoor
open Go.RowKit
set_option linter.unusedVariables false

def RcsI (w : World) (a : Option Addr) (n : Nat) (l : List RE) : Prop :=
  l.length = n ∧ (∀ e ∈ l, Seg w e.a e.n e.r.zs) ∧
  (n = 0 ∨ ∃ b off, a = some ⟨b, off, none⟩ ∧ b < w.heap.size ∧ ∀ i (hi : i < l.length), w.cell? ⟨b, off + i * 6, none⟩ = some (.int .i64 (l[i]).r.e) ∧ w.cell? ⟨b, off + i * 6 + 1, none⟩ = some (.int .i64 (l[i]).r.q) ∧ w.cell? ⟨b, off + i * 6 + 2, none⟩ = some (.int .i64 (l[i]).r.k) ∧ w.cell? ⟨b, off + i * 6 + 3, none⟩ = some (.string (l[i]).r.id) ∧ w.cell? ⟨b, off + i * 6 + 4, none⟩ = some (.int .i64 (l[i]).r.n) ∧ w.cell? ⟨b, off + i * 6 + 5, none⟩ = some (.slice (l[i]).a (l[i]).n (l[i]).c))

theorem RcsI.below {w w' : World} {a : Option Addr} {n : Nat} {l : List RE} (h : RcsI w a n l) (hb : Below w.heap.size w w') : RcsI w' a n l := by
  obtain ⟨h1, h2, h3⟩ := h
  refine ⟨h1, fun e he => (h2 e he).below hb, ?_⟩
  rcases h3 with h3 | ⟨b, off, rfl, hlt, hc⟩
  · exact .inl h3
  · refine .inr ⟨b, off, rfl, Nat.lt_of_lt_of_le hlt hb.size, fun i hi => ?_⟩
    obtain ⟨c0, c1, c2, c3, c4, c5⟩ := hc i hi
    have key : ∀ j v, w.cell? ⟨b, j, none⟩ = some v → w'.cell? ⟨b, j, none⟩ = some v := fun j v hv => (hb.cell (p := ⟨b, j, none⟩) hlt).trans hv
    exact ⟨key _ _ c0, key _ _ c1, key _ _ c2, key _ _ c3, key _ _ c4, key _ _ c5⟩

/-- The cells of the record at an index. -/
theorem RcsI.at {w : World} {a : Option Addr} {n : Nat} {l : List RE} (h : RcsI w a n l) {i : Nat} (hi : i < l.length) : ∃ b off, a = some ⟨b, off, none⟩ ∧ w.cell? ⟨b, off + i * 6, none⟩ = some (.int .i64 (l[i]).r.e) ∧ w.cell? ⟨b, off + i * 6 + 1, none⟩ = some (.int .i64 (l[i]).r.q) ∧ w.cell? ⟨b, off + i * 6 + 2, none⟩ = some (.int .i64 (l[i]).r.k) ∧ w.cell? ⟨b, off + i * 6 + 3, none⟩ = some (.string (l[i]).r.id) ∧ w.cell? ⟨b, off + i * 6 + 4, none⟩ = some (.int .i64 (l[i]).r.n) ∧ w.cell? ⟨b, off + i * 6 + 5, none⟩ = some (.slice (l[i]).a (l[i]).n (l[i]).c) := by
  rcases h.2.2 with h0 | ⟨b, off, rfl, _, hc⟩
  · have := h.1; omega
  · exact ⟨b, off, rfl, hc i hi⟩

theorem RcRow.rcsI {w : World} {base n c : Nat} {a : Option Addr} {l : List RE} (h : RcRow w base (.slice a n c) l) (hn : n = l.length) : RcsI w a n l := by
  refine ⟨hn.symm, fun e he => (h.2.1 e he).seg, ?_⟩
  by_cases h0 : n = 0
  · exact .inl h0
  · have h1 : 0 < l.length := by omega
    obtain ⟨g, rfl, _⟩ := h.at hn h1
    have hlt := (h.1.lt g rfl).2
    refine .inr ⟨g, 0, rfl, hlt, fun i hi => ?_⟩
    obtain ⟨g', hg', c0, c1, c2, c3, c4, c5, _⟩ := h.at hn hi
    injection hg' with hg'
    injection hg' with hg'
    subst hg'
    simp only [Nat.zero_add]
    exact ⟨c0, c1, c2, c3, c4, c5⟩

end Go.Proofs.YtjaihnmhojabfaaGreatDoor

namespace Go.Proofs.YtjaihnmhojabfaaGreatDoor
open Go.RowKit
set_option linter.unusedVariables false

theorem ret_bH {a b : Bool} (h : a = b) : Ending.returned (.bool a) = .returned (.bool b) := by rw [h]

/-- Whether there is a sector i. -/
def hasB (n : Nat) (i : Int) : Bool := decide (0 ≤ i ∧ i < (n : Int))

theorem implHas_any (a : Option Addr) (n ca : Nat) (a' : Option Addr) (n' ca' : Nat) (i : Int) (w : World) (hn : n ≤ 1099511627776) :
    Calls Tryz.prog 103 #[.agg #[.slice a n ca, .slice a' n' ca'], .int .i64 i] w fun e w' => e = .returned (.bool (hasB n i)) ∧ Below w.heap.size w w' := by
  have HB : Hid (Below w.heap.size w (w.alloc (Obj.cells #[Value.slice a n ca, Value.slice a' n' ca'] 26))) := (Below.refl _ _).alloc (Nat.le_refl _) _
  by_cases h0 : 0 ≤ i
  · have HF : Hid (hasB n i = decide (i < (n : Int))) := by
      show _ = _
      rw [hasB, decide_eq_decide]
      omega
    go_enter Tryz.func103, Tryz.ntmps103
    go_wp2_with fail
    go_ret
    exact ⟨ret_bH HF.out.symm, HB.out⟩
  · have HF : Hid (hasB n i = false) := decide_eq_false (by omega)
    go_enter Tryz.func103, Tryz.ntmps103
    go_wp2_with fail
    go_ret
    exact ⟨ret_bH HF.out.symm, HB.out⟩

end Go.Proofs.YtjaihnmhojabfaaGreatDoor

namespace Go.Proofs.YtjaihnmhojabfaaGreatDoor
open Go.RowKit
set_option linter.unusedVariables false

/-- Whether a sector may be put. -/
def mayPut (xs ys : List ByteArray) (i : Int) (s : ByteArray) : Bool := okD xs ys && decide (0 ≤ i ∧ i ≤ (xs.length : Int) - 1) && decide (s.size ≤ 64)

/-- The sectors behind a put. -/
def putX (xs ys : List ByteArray) (i : Int) (s : ByteArray) : List ByteArray := if mayPut xs ys i s then xs.set i.toNat s else xs

theorem putX_len (xs ys : List ByteArray) (i : Int) (s : ByteArray) : (putX xs ys i s).length = xs.length := by
  rw [putX]
  split
  · rw [List.length_set]
  · rfl

end Go.Proofs.YtjaihnmhojabfaaGreatDoor
