/- Texts of this claim, one behind the other: Rc, Ra, Pf, Rn, Rq, Rt. -/
import Derived.Test.YtgpfognglpfmoaaGreatDoorZ02
import Derived.Test.YtgpfognglpfmoaaGreatDoorZ08
import Derived.Test.YtgpfognglpfmoaaGreatDoorZ00
set_option linter.unusedSimpArgs false
set_option linter.unusedVariables false
section
/- Records in plain words: their bytes, the chain behind them, what is read of bytes. -/
namespace Go.Proofs.YtgpfognglpfmoaaGreatDoor
open Go.RowKit

/-- A record's Kind, and its Data as a block. -/
def recP (k : UInt8) (d : List UInt8) : List UInt8 := [k] ++ (numB d.length ++ d)
/-- The chain behind it. -/
def nextR (C : List UInt8) (k : UInt8) (d : List UInt8) : List UInt8 := sumS (C ++ recP k d)
/-- Its bytes. -/
def recB (C : List UInt8) (k : UInt8) (d : List UInt8) : List UInt8 := recP k d ++ (nextR C k d).take 8
/-- It may be. -/
def Vr (k : UInt8) (d : List UInt8) : Prop := k ≠ 0 ∧ d.length ≤ 8192

theorem sumS_length' (l : List UInt8) : (sumS l).length = 32 := by rw [sumS, sumOf, List.length_take, signs_length, eat_length _ _ _ _ startS_length]; rfl
theorem nextR_length (C : List UInt8) (k : UInt8) (d : List UInt8) : (nextR C k d).length = 32 := sumS_length' _
theorem recP_length (k : UInt8) (d : List UInt8) : (recP k d).length = 1 + (numSize d.length + d.length) := by simp [recP, numB_length]; omega
theorem recB_length (C : List UInt8) (k : UInt8) (d : List UInt8) : (recB C k d).length = 1 + (numSize d.length + d.length) + 8 := by
  rw [recB, List.length_append, recP_length, List.length_take, nextR_length]; rfl

/-- What stands at the head of bytes: a Kind, Data, what is told of the chain, the rest, an error. -/
structure Part where
  kind : UInt8
  data : List UInt8
  told : List UInt8
  rest : List UInt8
  err : Int

def parse : List UInt8 → Part
  | [] => ⟨0, [], [], [], 5⟩
  | u :: t =>
    if u = 0 then ⟨0, [], [], [], 4⟩ else
    if 8192 < (rdNum t 0).1 then ⟨0, [], [], [], 4⟩ else
    ⟨u, (tk (rdNum t 0).1 (rdNum t 0).2.1 (rdNum t 0).2.2).1,
      (tk 8 (tk (rdNum t 0).1 (rdNum t 0).2.1 (rdNum t 0).2.2).2.1 (tk (rdNum t 0).1 (rdNum t 0).2.1 (rdNum t 0).2.2).2.2).1,
      (tk 8 (tk (rdNum t 0).1 (rdNum t 0).2.1 (rdNum t 0).2.2).2.1 (tk (rdNum t 0).1 (rdNum t 0).2.1 (rdNum t 0).2.2).2.2).2.1,
      (tk 8 (tk (rdNum t 0).1 (rdNum t 0).2.1 (rdNum t 0).2.2).2.1 (tk (rdNum t 0).1 (rdNum t 0).2.1 (rdNum t 0).2.2).2.2).2.2⟩

theorem tk_err (n : Nat) (l : List UInt8) (e : Int) (h : (tk n l e).2.2 = 0) : e = 0 ∧ n ≤ l.length ∧ (tk n l e).1 = l.take n ∧ (tk n l e).2.1 = l.drop n := by
  unfold tk at h ⊢
  by_cases he : e = 0
  · subst he
    by_cases hn : n ≤ l.length
    · simp [hn]
    · simp [hn] at h
  · simp [he] at h

/-- Bytes that begin with a record: it is read. -/
theorem parse_put (k : UInt8) (d s t : List UInt8) (hk : k ≠ 0) (hd : d.length ≤ 8192) (hs : s.length = 8) : parse (recP k d ++ s ++ t) = ⟨k, d, s, t, 0⟩ := by
  have h1 : recP k d ++ s ++ t = k :: (numB d.length ++ (d ++ (s ++ t))) := by simp [recP]
  have h2 := rdNum_put d.length (by omega) (d ++ (s ++ t))
  rw [h1, parse, if_neg hk, h2, if_neg (by simp only; omega)]
  simp only [tk_put d (s ++ t) d.length rfl, tk_put s t 8 hs]
theorem cut3 (n : Nat) (l : List UInt8) : l.take n ++ ((l.drop n).take 8 ++ (l.drop n).drop 8) = l := by rw [List.take_append_drop, List.take_append_drop]
/-- Bytes that are read as a record begin with it. -/
theorem parse_back (l : List UInt8) (h : (parse l).err = 0) : l = recP (parse l).kind (parse l).data ++ (parse l).told ++ (parse l).rest ∧ Vr (parse l).kind (parse l).data ∧ (parse l).told.length = 8 := by
  rcases l with _ | ⟨u, t⟩
  · cases h
  · rw [parse] at h ⊢
    by_cases hu : u = 0
    · rw [if_pos hu] at h; cases h
    · rw [if_neg hu] at h ⊢
      by_cases hn : 8192 < (rdNum t 0).1
      · rw [if_pos hn] at h; cases h
      · rw [if_neg hn] at h ⊢
        simp only at h ⊢
        obtain ⟨h1, h2, h3, h4⟩ := tk_err _ _ _ h
        obtain ⟨h5, h6, h7, h8⟩ := tk_err _ _ _ h1
        have hb := rdNum_back t h5
        rw [h3, h4, h8, h7]
        rw [h8] at h2
        have hl : (List.take (rdNum t 0).1 (rdNum t 0).2.1).length = (rdNum t 0).1 := by rw [List.length_take]; omega
        refine ⟨?_, ⟨hu, by rw [hl]; omega⟩, by rw [List.length_take]; omega⟩
        rw [recP, hl, List.append_assoc, List.append_assoc, List.append_assoc, cut3]
        conv => lhs; rw [hb]
        rfl

/-- The error that Read answers. -/
def readErr (C l : List UInt8) : Int :=
  if (parse l).err ≠ 0 then (parse l).err else if (parse l).told = (nextR C (parse l).kind (parse l).data).take 8 then 0 else 4

theorem take8_length (C : List UInt8) (k : UInt8) (d : List UInt8) : ((nextR C k d).take 8).length = 8 := by rw [List.length_take, nextR_length]; rfl
/-- What is put is read. -/
theorem read_put (C : List UInt8) (k : UInt8) (d t : List UInt8) (h : Vr k d) : parse (recB C k d ++ t) = ⟨k, d, (nextR C k d).take 8, t, 0⟩ ∧ readErr C (recB C k d ++ t) = 0 := by
  have hp := parse_put k d ((nextR C k d).take 8) t h.1 h.2 (take8_length C k d)
  have hp' : parse (recB C k d ++ t) = ⟨k, d, (nextR C k d).take 8, t, 0⟩ := hp
  refine ⟨hp', ?_⟩
  rw [readErr, hp']
  simp
/-- What is read was put. -/
theorem read_back (C l : List UInt8) (h : readErr C l = 0) : l = recB C (parse l).kind (parse l).data ++ (parse l).rest ∧ Vr (parse l).kind (parse l).data := by
  unfold readErr at h
  by_cases he : (parse l).err = 0
  · rw [if_neg (by simp [he])] at h
    by_cases ht : (parse l).told = (nextR C (parse l).kind (parse l).data).take 8
    · obtain ⟨h1, h2, _⟩ := parse_back l he
      refine ⟨?_, h2⟩
      rw [ht] at h1
      exact h1
    · rw [if_neg ht] at h; cases h
  · rw [if_pos he] at h; exact absurd h he
theorem read_ex (C l : List UInt8) (h : readErr C l = 0) : ∃ k d t, Vr k d ∧ l = recB C k d ++ t := ⟨_, _, _, (read_back C l h).2, (read_back C l h).1⟩
/-- Bytes that begin with a record, from a chain, begin with no other one. -/
theorem rec_one (C : List UInt8) (k k' : UInt8) (d d' t t' : List UInt8) (h : Vr k d) (h' : Vr k' d') (he : recB C k d ++ t = recB C k' d' ++ t') : k = k' ∧ d = d' ∧ t = t' := by
  have h1 := (read_put C k d t h).1
  rw [he, (read_put C k' d' t' h').1] at h1
  injection h1 with a b c d e
  exact ⟨a.symm, b.symm, d.symm⟩

/-- All of records' bytes, one behind the other. -/
def recsB (C : List UInt8) : List (UInt8 × List UInt8) → List UInt8
  | [] => []
  | r :: t => recB C r.1 r.2 ++ recsB (nextR C r.1 r.2) t
/-- The chain behind them. -/
def endR (C : List UInt8) : List (UInt8 × List UInt8) → List UInt8
  | [] => C
  | r :: t => endR (nextR C r.1 r.2) t
def Vrs (rs : List (UInt8 × List UInt8)) : Prop := ∀ r ∈ rs, Vr r.1 r.2

theorem recsB_append (C : List UInt8) : ∀ (a b : List (UInt8 × List UInt8)), recsB C (a ++ b) = recsB C a ++ recsB (endR C a) b
  | [], b => rfl
  | r :: a, b => by
    rw [List.cons_append, recsB, recsB, endR, recsB_append (nextR C r.1 r.2) a b, List.append_assoc]
theorem endR_append (C : List UInt8) : ∀ (a b : List (UInt8 × List UInt8)), endR C (a ++ b) = endR (endR C a) b
  | [], b => rfl
  | r :: a, b => by rw [List.cons_append, endR, endR, endR_append _ a b]
theorem endR_length (C : List UInt8) (hC : C.length = 32) : ∀ (a : List (UInt8 × List UInt8)), (endR C a).length = 32
  | [] => hC
  | r :: a => by rw [endR]; exact endR_length _ (nextR_length _ _ _) a
/-- Records that stand at the head of bytes, and nothing behind them that is read: they are just these. -/
theorem recs_one : ∀ (a b : List (UInt8 × List UInt8)) (C t t' : List UInt8), Vrs a → Vrs b → recsB C a ++ t = recsB C b ++ t' → readErr (endR C a) t ≠ 0 → readErr (endR C b) t' ≠ 0 → a = b ∧ t = t'
  | [], [], _, _, _, _, _, he, _, _ => ⟨rfl, by simpa [recsB] using he⟩
  | [], r :: b, C, t, t', _, hb, he, h1, _ => by
    refine absurd ?_ h1
    have hv := hb r (List.mem_cons_self)
    rw [recsB, recsB, List.nil_append, List.append_assoc] at he
    rw [he, endR]
    exact (read_put C r.1 r.2 _ hv).2
  | r :: a, [], C, t, t', ha, _, he, _, h2 => by
    refine absurd ?_ h2
    have hv := ha r (List.mem_cons_self)
    rw [recsB, recsB, List.nil_append, List.append_assoc] at he
    rw [← he, endR]
    exact (read_put C r.1 r.2 _ hv).2
  | r :: a, s :: b, C, t, t', ha, hb, he, h1, h2 => by
    rw [recsB, recsB, List.append_assoc, List.append_assoc] at he
    obtain ⟨e1, e2, e3⟩ := rec_one C _ _ _ _ _ _ (ha r List.mem_cons_self) (hb s List.mem_cons_self) he
    obtain rfl : r = s := Prod.ext e1 e2
    obtain ⟨f1, f2⟩ := recs_one a b _ t t' (fun x hx => ha x (List.mem_cons_of_mem _ hx)) (fun x hx => hb x (List.mem_cons_of_mem _ hx)) e3 h1 h2
    exact ⟨by rw [f1], f2⟩
/-- A record that is cut short is not read. -/
theorem cut_short (C : List UInt8) (k : UInt8) (d : List UInt8) (h : Vr k d) (n : Nat) (hn : n < (recB C k d).length) : readErr C ((recB C k d).take n) ≠ 0 := by
  intro he
  obtain ⟨k', d', t, hv, e⟩ := read_ex C _ he
  have h1 : recB C k d ++ [] = recB C k' d' ++ (t ++ (recB C k d).drop n) := by
    rw [← List.append_assoc, ← e, List.take_append_drop, List.append_nil]
  obtain ⟨e1, e2, e3⟩ := rec_one C _ _ _ _ _ _ h hv h1
  have := congrArg List.length e3
  simp only [List.length_nil, List.length_append, List.length_drop] at this
  omega
theorem read_nil (C : List UInt8) : readErr C [] ≠ 0 := by simp [readErr, parse]
end Go.Proofs.YtgpfognglpfmoaaGreatDoor
end
section
/- record: content, Next, Check, Equal, kit's Record, Size, Bytes. -/
namespace Go.Proofs.YtgpfognglpfmoaaGreatDoor
set_option maxRecDepth 8192
set_option linter.unusedSimpArgs false
set_option linter.unusedVariables false
open Go.RowKit

theorem ofNat_toNat (k : UInt8) : UInt8.ofNat ((k.toNat : Int)).toNat = k := by simp
theorem Rd.top {w : World} {n c : Nat} {A : Option Addr} {l : List UInt8} (h : Rd w w.heap.size A n c l) {w' : World} (hb : Below w.heap.size w w') : Rd w' w'.heap.size A n c l := (h.below hb).more hb.size

theorem Rd.one (w : World) (k : UInt8) (g : Nat) (hg : g = w.heap.size) : Rd (w.alloc (.cells #[.int .u8 (k.toNat : Int)] 5)) (w.alloc (.cells #[.int .u8 (k.toNat : Int)] 5)).heap.size (some ⟨g, 0, none⟩) 1 1 [k] := by
  subst hg
  have hk := k.toNat_lt
  have := Rd.lit1 w (k.toNat : Int) (by omega) (by omega)
  rw [ofNat_toNat] at this
  simpa using this

set_option maxHeartbeats 400000 in
theorem content_any {A : Option Addr} {n c : Nat} {l : List UInt8} (k : UInt8) (w : World) (hr : Rd w w.heap.size A n c l) (hn : n ≤ 1073741824) :
    Calls Tryz.prog 121 #[.agg #[.int .u8 (k.toNat : Int), .slice A n c]] w (Gives w (recP k l)) := by
  have hk := k.toNat_lt
  have HR := Lib.hid hr
  clear hr
  have hb1 := Lib.hid (bl_alloc (bl_alloc (bl0 w) (.cells #[.int .u8 (k.toNat : Int), .slice A n c] 33)) (.cells #[.int .u8 (k.toNat : Int)] 5))
  have hr1 := Lib.hid (Rd.one (w.alloc (.cells #[.int .u8 (k.toNat : Int), .slice A n c] 33)) k (w.heap.size + 1) (by simp))
  go_enter Tryz.func121, Tryz.ntmps121
  go_wp2_with fail
  refine (Block_any _ hr1.out (by omega) (HR.out.top hb1.out) (by omega)).mono ?_
  rintro e w1 ⟨v1, rfl, ho1, hb2⟩
  go_wp2
  go_ret
  exact Gives.mk (ho1.lower hb1.out.size) (hb1.out.trans (hb2.mono hb1.out.size))
end Go.Proofs.YtgpfognglpfmoaaGreatDoor
end
section
/- Lists of slices, cut out of one; where a slice that came in lies. -/
namespace Go.Proofs.YtgpfognglpfmoaaGreatDoor
open Go.RowKit

/-- A slice that reads, and lies below a block. -/
structure Sl (w : World) (top : Nat) (A : Option Addr) (n c : Nat) (l : List UInt8) : Prop where
  rd : Rd w top A n c l
  low : ∀ a, A = some a → a.block < top
theorem Sl.below {w w' : World} {top n c : Nat} {A : Option Addr} {l : List UInt8} (h : Sl w top A n c l) (hb : Below top w w') : Sl w' top A n c l := ⟨h.rd.below hb, h.low⟩
theorem Sl.more {w : World} {top top' n c : Nat} {A : Option Addr} {l : List UInt8} (h : Sl w top A n c l) (ht : top ≤ top') : Sl w top' A n c l := ⟨h.rd.more ht, fun a ha => Nat.lt_of_lt_of_le (h.low a ha) ht⟩
/-- Where a slice's rest begins. -/
def restAt (A : Option Addr) (c k : Nat) : Option Addr := if c = k then A else A.map (·.add k)
theorem Sl.drop {w : World} {top n c k : Nat} {A : Option Addr} {l : List UInt8} (h : Sl w top A n c l) (hk : k ≤ n) : Sl w top (restAt A c k) (n - k) (c - k) (l.drop k) :=
  ⟨h.rd.drop_ hk, fun a ha => by
    unfold restAt at ha
    split at ha
    · exact h.low a ha
    · obtain ⟨b, hb, rfl⟩ := Option.map_eq_some_iff.1 ha
      rw [add_block]
      exact h.low b hb⟩
theorem Sl.take {w : World} {top n c k : Nat} {A : Option Addr} {l : List UInt8} (h : Sl w top A n c l) (hk : k ≤ n) : Sl w top A k c (l.take k) := ⟨h.rd.take_ hk, h.low⟩

theorem Rl.of {w : World} (L : List (List UInt8)) (cs : List Value) (hn : cs.length = L.length) (h : ∀ (j : Nat) x, L[j]? = some x → ∃ A n c, cs[j]? = some (.slice A n c) ∧ Sl w w.heap.size A n c x) (T : TypeId) :
    Rl (w.alloc (.cells cs.toArray T)) (w.alloc (.cells cs.toArray T)).heap.size (some ⟨w.heap.size, 0, none⟩) cs.length L := by
  have hb : Below w.heap.size w (w.alloc (.cells cs.toArray T)) := (Below.refl _ _).alloc (Nat.le_refl _) _
  have hs : (w.alloc (.cells cs.toArray T)).heap.size = w.heap.size + 1 := by simp
  refine ⟨hn.symm, fun j x hx => ?_⟩
  obtain ⟨A, n, c, hc, hr⟩ := h j x hx
  have h2 := (hr.below hb).more (show w.heap.size ≤ (w.alloc (.cells cs.toArray T)).heap.size by omega)
  refine ⟨_, A, n, c, rfl, by rw [hs]; exact Nat.lt_succ_self _, ?_, h2.rd, h2.low⟩
  have := (Bk.new w cs T).cell hc
  rwa [add_zero_mid]
theorem Rl.two {w : World} {A A2 : Option Addr} {n c n2 c2 : Nat} {l l2 : List UInt8} (h1 : Sl w w.heap.size A n c l) (h2 : Sl w w.heap.size A2 n2 c2 l2) (T : TypeId) :
    Rl (w.alloc (.cells #[.slice A n c, .slice A2 n2 c2] T)) (w.alloc (.cells #[.slice A n c, .slice A2 n2 c2] T)).heap.size (some ⟨w.heap.size, 0, none⟩) 2 [l, l2] :=
  Rl.of [l, l2] [.slice A n c, .slice A2 n2 c2] rfl (fun j x hx => by
    rcases j with _ | _ | j
    · simp only [List.getElem?_cons_zero, Option.some.injEq] at hx; subst hx; exact ⟨_, _, _, rfl, h1⟩
    · simp only [List.getElem?_cons_succ, List.getElem?_cons_zero, Option.some.injEq] at hx; subst hx; exact ⟨_, _, _, rfl, h2⟩
    · simp at hx) T
theorem Rl.three {w : World} {A A2 A3 : Option Addr} {n c n2 c2 n3 c3 : Nat} {l l2 l3 : List UInt8} (h1 : Sl w w.heap.size A n c l) (h2 : Sl w w.heap.size A2 n2 c2 l2) (h3 : Sl w w.heap.size A3 n3 c3 l3) (T : TypeId) :
    Rl (w.alloc (.cells #[.slice A n c, .slice A2 n2 c2, .slice A3 n3 c3] T)) (w.alloc (.cells #[.slice A n c, .slice A2 n2 c2, .slice A3 n3 c3] T)).heap.size (some ⟨w.heap.size, 0, none⟩) 3 [l, l2, l3] :=
  Rl.of [l, l2, l3] [.slice A n c, .slice A2 n2 c2, .slice A3 n3 c3] rfl (fun j x hx => by
    rcases j with _ | _ | _ | j
    · simp only [List.getElem?_cons_zero, Option.some.injEq] at hx; subst hx; exact ⟨_, _, _, rfl, h1⟩
    · simp only [List.getElem?_cons_succ, List.getElem?_cons_zero, Option.some.injEq] at hx; subst hx; exact ⟨_, _, _, rfl, h2⟩
    · simp only [List.getElem?_cons_succ, List.getElem?_cons_zero, Option.some.injEq] at hx; subst hx; exact ⟨_, _, _, rfl, h3⟩
    · simp at hx) T

theorem exec_slice31_lo {o : Oper} {a : Act} {w : World} (x y : Operand) (ho : o.op = .slice 31 x (some y) none none) {A : Option Addr} {n c k : Nat} {i : Int} (hx : a.eval x = .slice A n c) (hy : a.eval y = .int .i64 i) (hk : k ≤ n) (hi : i = k) :
    (execOp a.eval o).run Tryz.prog w = .ok (.value (.slice (restAt A c k) (n - k) (c - k))) w := by
  subst hi
  have h1 : (k : Int) ≤ (n : Int) := by omega
  unfold execOp
  simp only [ho, hx, hy, Option.map_some, Option.map_none]
  simp [Instr.sliceAt, Instr.slice, run_underlying Tryz.underlying31, Instr.sliceBounds, run_sliceBound, h1, Tryz.sizeOf5, restAt, go_sem]
theorem exec_slice31_mid {o : Oper} {a : Act} {w : World} (x y z : Operand) (ho : o.op = .slice 31 x (some y) (some z) none) {A : Option Addr} {n c k m : Nat} {i j : Int} (hx : a.eval x = .slice A n c) (hy : a.eval y = .int .i64 i) (hz : a.eval z = .int .i64 j) (hk : k ≤ m) (hc : m ≤ c) (hi : i = k) (hj : j = m) :
    (execOp a.eval o).run Tryz.prog w = .ok (.value (.slice (restAt A c k) (m - k) (c - k))) w := by
  subst hi
  subst hj
  have h2 : (m : Int) ≤ (c : Int) := by omega
  unfold execOp
  simp only [ho, hx, hy, hz, Option.map_some, Option.map_none]
  simp [Instr.sliceAt, Instr.slice, run_underlying Tryz.underlying31, Instr.sliceBounds, run_sliceBound, h2, Tryz.sizeOf5, restAt, go_sem]
  intro h; omega

set_option maxRecDepth 8192 in
/-- A slice that came in lies among the blocks. -/
theorem slice_low {W : World} {base : Nat} {A : Option Addr} {n c : Nat} (h : Value.okWide Tryz.prog W .any base 31 (.slice A n c)) : ∀ a, A = some a → a.block < W.heap.size := by
  rintro a rfl
  simp only [Value.okWide, Tryz.underlying31, Cell.okWide, Cell.ok] at h
  obtain ⟨_, _, _, _, row, cells, hs, _⟩ := h
  unfold World.shape? at hs
  by_cases hb : a.block < W.heap.size
  · exact hb
  · rw [Array.getElem?_eq_none (by omega)] at hs
    simp at hs
end Go.Proofs.YtgpfognglpfmoaaGreatDoor
end
section
/- record: Next. -/
namespace Go.Proofs.YtgpfognglpfmoaaGreatDoor
set_option maxRecDepth 8192
set_option linter.unusedSimpArgs false
set_option linter.unusedVariables false
open Go.RowKit

theorem run_slice_all {T : TypeId} {n : Nat} (hu : Tryz.prog.underlying T = some (.array n 5)) {g : Nat} (hn : 0 < n) (w : World) :
    (Instr.sliceAt T (.pointer (some ⟨g, 0, none⟩)) none none none).run Tryz.prog w = .ok (.slice (some ⟨g, 0, none⟩) n n) w := by
  have h1 : ¬ n = 0 := by omega
  simp [Instr.sliceAt, Instr.sureAddr, run_underlying hu, Instr.sliceBounds, run_sliceBound, h1, Tryz.sizeOf5, add_zero_mid, go_sem]
theorem Bk.sl {w : World} {g n : Nat} {l : List UInt8} (h : Bk w g (cs8 l)) (hn : l.length = n) : Sl w w.heap.size (some ⟨g, 0, none⟩) n n l := by
  have hl := h.lt
  obtain ⟨t, h⟩ := h
  have := Rd.of_block (l := l) (top := w.heap.size) h hl
  rw [hn] at this
  exact ⟨this, fun a ha => by injection ha with ha; subst ha; exact hl⟩
theorem Ow.sl {w : World} {base n : Nat} {l : List UInt8} {v : Value} (h : Ow w base v l) (hn : l.length = n) : ∃ A c, v = .slice A n c ∧ Sl w w.heap.size A n c l := by
  obtain ⟨A, c, rfl, hr⟩ := h.rdN hn
  exact ⟨A, c, rfl, hr, fun a ha => (World.ownsRow.lt h a.block (by rw [ha]; rfl)).2⟩

theorem exec_slice_all {o : Oper} {a : Act} {w : World} {T : TypeId} {n g : Nat} (x : Operand) (ho : o.op = .slice T x none none none) (hx : a.eval x = .pointer (some ⟨g, 0, none⟩)) (hu : Tryz.prog.underlying T = some (.array n 5)) (hn : 0 < n) :
    (execOp a.eval o).run Tryz.prog w = .ok (.value (.slice (some ⟨g, 0, none⟩) n n)) w := by
  unfold execOp
  simp only [ho, hx, Option.map_none, run_slice_all hu hn, Sem.run_bind, Result.andThen_ok, Sem.run_pure]

set_option maxHeartbeats 1600000 in
theorem Next_any {A : Option Addr} {n c : Nat} {l C : List UInt8} (k : UInt8) (w : World) (hC : C.length = 32) (hr : Rd w w.heap.size A n c l) (hn : n ≤ 536870912) :
    Calls Tryz.prog 120 #[.agg (cs8 C).toArray, .agg #[.int .u8 (k.toNat : Int), .slice A n c]] w fun e w' => e = .returned (.agg (cs8 (nextR C k l)).toArray) ∧ Below w.heap.size w w' := by
  have HR := Lib.hid hr
  have HC := Lib.hid hC
  have hp := recP_length k l
  have hnn := numSize_bd l.length
  have hll := hr.len
  have hT : (C ++ recP k l).length ≤ 1073741824 := by rw [List.length_append, hC, hp]; omega
  have HT := Lib.hid hT
  have HP := Lib.hid (show (cs8 (nextR C k l)).length = 32 by rw [cs8_length, nextR_length])
  have HU := Lib.hid (show nextR C k l = sumS ([C, recP k l].flatten) by simp [nextR])
  clear hr hC hT hp hll hnn
  generalize nextR C k l = S at HP HU ⊢
  go_enter Tryz.func120, Tryz.ntmps120
  go_wp2_with (refine wpList_alloc_z rfl 59 rfl z36 zero36 ?_)
  have hB0 : Below w.heap.size w (((w.alloc (.cells (cs8 C).toArray 59)).alloc (.cells #[.int .u8 (k.toNat : Int), .slice A n c] 33)).alloc (.cells z36.toArray 59)) := bl_alloc (bl_alloc (bl_alloc (bl0 w) _) _) _
  have HBX : Hid (Bk (((w.alloc (.cells (cs8 C).toArray 59)).alloc (.cells #[.int .u8 (k.toNat : Int), .slice A n c] 33)).alloc (.cells z36.toArray 59)) w.heap.size (cs8 C)) := Lib.hid (((Bk.new w (cs8 C) 59).old _).old _)
  have HRS : Hid (Bk (((w.alloc (.cells (cs8 C).toArray 59)).alloc (.cells #[.int .u8 (k.toNat : Int), .slice A n c] 33)).alloc (.cells z36.toArray 59)) (w.heap.size + 2) z36) := Lib.hid (by
    have := Bk.new ((w.alloc (.cells (cs8 C).toArray 59)).alloc (.cells #[.int .u8 (k.toNat : Int), .slice A n c] 33)) z36 59
    simpa using this)
  have HRC : Hid (Bk (((w.alloc (.cells (cs8 C).toArray 59)).alloc (.cells #[.int .u8 (k.toNat : Int), .slice A n c] 33)).alloc (.cells z36.toArray 59)) (w.heap.size + 1) [.int .u8 (k.toNat : Int), .slice A n c]) := Lib.hid (by
    have := (Bk.new (w.alloc (.cells (cs8 C).toArray 59)) [.int .u8 (k.toNat : Int), .slice A n c] 33).old (.cells z36.toArray 59)
    simpa using this)
  have hsz : (((w.alloc (.cells (cs8 C).toArray 59)).alloc (.cells #[.int .u8 (k.toNat : Int), .slice A n c] 33)).alloc (.cells z36.toArray 59)).heap.size = w.heap.size + 3 := by simp
  rw [show ((w.alloc (.cells (cs8 C).toArray 59)).alloc (.cells #[.int .u8 (k.toNat : Int), .slice A n c] 33)).heap.size = w.heap.size + 2 from by simp]
  generalize (((w.alloc (.cells (cs8 C).toArray 59)).alloc (.cells #[.int .u8 (k.toNat : Int), .slice A n c] 33)).alloc (.cells z36.toArray 59)) = w1 at hB0 HBX HRS HRC hsz ⊢
  have hR := Sb.stays (w.heap.size + 2)
  refine reg_start (Sb (w.heap.size + 2)) follows_mixed ?_
  have hB1 := Lib.hid hB0.drew
  have hX1 := Lib.hid HBX.out.drew
  have hS1 := Lib.hid HRS.out.drew
  have hC1 := Lib.hid HRC.out.drew
  have hz1 : w1.drew.heap.size = w.heap.size + 3 := hsz
  clear HBX HRS HRC hB0 hsz
  generalize w1.drew = w2 at hB1 hX1 hS1 hC1 hz1 ⊢
  refine reg_take (v := .slice (some ⟨w.heap.size, 0, none⟩) 32 32) hR 0 rfl (by kernel_rfl) (by kernel_rfl) (by kernel_rfl) (fun _ _ _ h => h) (by rfl) ?_ ?_
  · intro W hW; exact exec_slice_all _ rfl rfl Tryz.underlying59 (by decide)
  try simp only [Act.put, List.getElem_toArray, List.getElem_cons_succ, List.getElem_cons_zero, List.setIfInBounds_toArray, List.set_cons_zero, List.set_cons_succ]
  refine reg_take (v := .agg #[.int .u8 (k.toNat : Int), .slice A n c]) hR 1 rfl (by kernel_rfl) (by kernel_rfl) (by kernel_rfl) (fun _ _ _ h => h) (by rfl) ?_ ?_
  · intro W hW; exact exec_load_at 33 _ rfl ⟨w.heap.size + 1, 0, none⟩ rfl [.int .u8 (k.toNat : Int), .slice A n c] _ ((hC1.out.below hW (by omega)).at_) Tryz.underlying33 rfl (by kernel_rfl)
  try simp only [Act.put, List.getElem_toArray, List.getElem_cons_succ, List.getElem_cons_zero, List.setIfInBounds_toArray, List.set_cons_zero, List.set_cons_succ]
  refine reg_step hR 2 (by kernel_rfl) rfl fun K hK => ?_
  try simp only [Act.put, List.getElem_toArray, List.getElem_cons_succ, List.getElem_cons_zero, List.setIfInBounds_toArray, List.set_cons_zero, List.set_cons_succ]
  go_simp
  refine (content_any k _ (HR.out.top hB1.out) (by omega)).mono ?_; rintro e w3 ⟨v3, rfl, ho3, hb3⟩
  refine hK.out _ _ (hb3.mono (by omega)) ?_
  have hB3 := Lib.hid (bl_call hB1.out hb3)
  have hX3 := Lib.hid (hX1.out.keep hb3)
  have hS3 := Lib.hid (hS1.out.keep hb3)
  have hz3 := hb3.size
  obtain ⟨A3, c3, rfl, hl3⟩ := ho3.sl rfl
  have hT3 := Lib.hid (Rl.two (hX3.out.sl HC.out) hl3 31)
  clear hb3 ho3 hl3 hX1 hS1 hC1 hB1
  clear hK K
  try simp only [Act.put, List.getElem_toArray, List.getElem_cons_succ, List.getElem_cons_zero, List.setIfInBounds_toArray, List.set_cons_zero, List.set_cons_succ]
  refine reg_step hR 3 (by kernel_rfl) rfl fun K hK => ?_
  try simp only [Act.put, List.getElem_toArray, List.getElem_cons_succ, List.getElem_cons_zero, List.setIfInBounds_toArray, List.set_cons_zero, List.set_cons_succ]
  go_simp
  have hB4 := Lib.hid (bl_alloc hB3.out (.cells #[.slice (some ⟨w.heap.size, 0, none⟩) 32 32, .slice A3 (recP k l).length c3] 31))
  have hS4 := Lib.hid (hS3.out.old (.cells #[.slice (some ⟨w.heap.size, 0, none⟩) 32 32, .slice A3 (recP k l).length c3] 31))
  refine hK.out _ _ ((Below.refl _ _).alloc (by omega) _) ?_
  clear hK K
  try simp only [Act.put, List.getElem_toArray, List.getElem_cons_succ, List.getElem_cons_zero, List.setIfInBounds_toArray, List.set_cons_zero, List.set_cons_succ]
  generalize w3.alloc (.cells #[.slice (some ⟨w.heap.size, 0, none⟩) 32 32, .slice A3 (recP k l).length c3] 31) = w4 at hT3 hB4 hS4 ⊢
  have hz4 := hS4.out.lt
  refine reg_step hR 4 (by kernel_rfl) rfl fun K hK => ?_
  try simp only [Act.put, List.getElem_toArray, List.getElem_cons_succ, List.getElem_cons_zero, List.setIfInBounds_toArray, List.set_cons_zero, List.set_cons_succ]
  go_simp
  refine (Sum_any _ hT3.out (by omega) (by have := HT.out; simpa using this)).mono ?_; rintro e w5 ⟨rfl, hb5⟩
  have hB5 := Lib.hid (bl_call hB4.out hb5)
  have hS5 := Lib.hid (hS4.out.keep hb5)
  refine hK.out _ _ (hb5.mono (by omega)) ?_
  rw [← HU.out]
  clear hb5
  clear hK K
  try simp only [Act.put, List.getElem_toArray, List.getElem_cons_succ, List.getElem_cons_zero, List.setIfInBounds_toArray, List.set_cons_zero, List.set_cons_succ]
  refine reg_step hR 5 (by kernel_rfl) rfl fun K hK => ?_
  try simp only [Act.put, List.getElem_toArray, List.getElem_cons_succ, List.getElem_cons_zero, List.setIfInBounds_toArray, List.set_cons_zero, List.set_cons_succ]
  rw [if_pos (by rfl)]
  refine wp_store_bk 59 _ _ rfl (w.heap.size + 2) rfl (cs8 S) z36 rfl hS5.out (by rw [HP.out]; exact info36) (by rw [HP.out]; exact len_z36) (cs8_all _) ?_
  refine hK.out _ _ (below_setRow (Below.refl _ _) (by omega) _) ?_
  clear hK K
  try simp only [Act.put, List.getElem_toArray, List.getElem_cons_succ, List.getElem_cons_zero, List.setIfInBounds_toArray, List.set_cons_zero, List.set_cons_succ]
  refine reg_done (by kernel_rfl) ?_ _
  have hS6 := Lib.hid (hS5.out.setRow (cs8 S))
  have hB6 := Lib.hid (bl_setRow hB5.out (show w.heap.size ≤ w.heap.size + 2 by omega) (cs8 S).toArray)
  go_wp2
  exact ret_bk rfl (w.heap.size + 2) _ _ rfl rfl hS6.out Tryz.underlying59 rfl (by rw [HP.out]; exact info36) ⟨rfl, hB6.out⟩
end Go.Proofs.YtgpfognglpfmoaaGreatDoor
end
section
/- record: Check, Equal, Same, Size; the kit's Record. -/
namespace Go.Proofs.YtgpfognglpfmoaaGreatDoor
set_option maxRecDepth 8192
set_option linter.unusedSimpArgs false
set_option linter.unusedVariables false
open Go.RowKit

theorem k_ne {k : UInt8} (h : k ≠ 0) : ((k.toNat : Int) == 0) = false := by
  rw [beq_eq_false_iff_ne]
  intro e
  apply h
  have : k.toNat = 0 := by omega
  exact UInt8.toNat_inj.1 this

set_option maxHeartbeats 400000 in
theorem Check_good {A : Option Addr} {n c : Nat} {k : UInt8} (w : World) (hk : k ≠ 0) (hn : n ≤ 8192) :
    Calls Tryz.prog 46 #[.agg #[.int .u8 (k.toNat : Int), .slice A n c]] w fun e w' => e = .returned (.int .i64 0) ∧ Below w.heap.size w w' := by
  have hk := k_ne hk
  go_enter Tryz.func46, Tryz.ntmps46
  go_wp2
  go_ret
  exact ⟨rfl, bl_alloc (bl0 w) _⟩
set_option maxHeartbeats 400000 in
theorem Check_bad {A : Option Addr} {n c : Nat} {k : UInt8} (w : World) (h : ¬ (k ≠ 0 ∧ n ≤ 8192)) :
    Calls Tryz.prog 46 #[.agg #[.int .u8 (k.toNat : Int), .slice A n c]] w fun e w' => e = .returned (.int .i64 2) ∧ Below w.heap.size w w' := by
  by_cases hk : k = 0
  · subst hk
    clear h
    rw [show ((0 : UInt8).toNat : Int) = 0 from rfl]
    go_enter Tryz.func46, Tryz.ntmps46
    go_wp2
    go_ret
    exact ⟨rfl, bl_alloc (bl0 w) _⟩
  · have hn : 8192 < n := by
      by_cases h2 : n ≤ 8192
      · exact absurd ⟨hk, h2⟩ h
      · omega
    have hk := k_ne hk
    clear h
    go_enter Tryz.func46, Tryz.ntmps46
    go_wp2
    go_ret
    exact ⟨rfl, bl_alloc (bl0 w) _⟩

set_option maxHeartbeats 400000 in
theorem Equal_yes {A A2 : Option Addr} {n c n2 c2 top top2 : Nat} {l l2 : List UInt8} (w : World) (h1 : Rd w top A n c l) (h2 : Rd w top2 A2 n2 c2 l2) (h : l = l2) :
    Calls Tryz.prog 115 #[.slice A n c, .slice A2 n2 c2] w fun e w' => e = .returned (.bool true) ∧ w = w' := by
  subst h
  have hs1 := run_str h1
  have hs2 := run_str h2
  go_enter Tryz.func115, Tryz.ntmps115
  go_wp2
  go_ret
  exact ⟨rfl, rfl⟩
set_option maxHeartbeats 400000 in
theorem Equal_no {A A2 : Option Addr} {n c n2 c2 top top2 : Nat} {l l2 : List UInt8} (w : World) (h1 : Rd w top A n c l) (h2 : Rd w top2 A2 n2 c2 l2) (h : l ≠ l2) :
    Calls Tryz.prog 115 #[.slice A n c, .slice A2 n2 c2] w fun e w' => e = .returned (.bool false) ∧ w = w' := by
  have hs1 := run_str h1
  have hs2 := run_str h2
  have hd : (l == l2) = false := by rw [beq_eq_false_iff_ne]; exact h
  go_enter Tryz.func115, Tryz.ntmps115
  go_wp2
  go_ret
  exact ⟨rfl, rfl⟩

theorem k_neq {k k2 : UInt8} (h : k ≠ k2) : ((k.toNat : Int) == (k2.toNat : Int)) = false := by
  rw [beq_eq_false_iff_ne]
  intro e
  exact h (UInt8.toNat_inj.1 (by omega))
set_option maxHeartbeats 400000 in
theorem Rec_yes {A A2 : Option Addr} {n c n2 c2 : Nat} {l l2 : List UInt8} {k k2 : UInt8} (w : World) (h1 : Rd w w.heap.size A n c l) (h2 : Rd w w.heap.size A2 n2 c2 l2) (h : k = k2 ∧ l = l2) :
    Calls Tryz.prog 77 #[.agg #[.int .u8 (k.toNat : Int), .slice A n c], .agg #[.int .u8 (k2.toNat : Int), .slice A2 n2 c2]] w fun e w' => e = .returned (.bool true) ∧ Below w.heap.size w w' := by
  obtain ⟨rfl, rfl⟩ := h
  have hb := Lib.hid (bl_alloc (bl_alloc (bl0 w) (.cells #[.int .u8 (k.toNat : Int), .slice A n c] 33)) (.cells #[.int .u8 (k.toNat : Int), .slice A2 n2 c2] 33))
  have hs1 := run_str (h1.top hb.out)
  have hs2 := run_str (h2.top hb.out)
  go_enter Tryz.func77, Tryz.ntmps77
  go_wp2
  go_ret
  exact ⟨rfl, hb.out⟩
set_option maxHeartbeats 400000 in
theorem Rec_no {A A2 : Option Addr} {n c n2 c2 : Nat} {l l2 : List UInt8} {k k2 : UInt8} (w : World) (h1 : Rd w w.heap.size A n c l) (h2 : Rd w w.heap.size A2 n2 c2 l2) (h : ¬ (k = k2 ∧ l = l2)) :
    Calls Tryz.prog 77 #[.agg #[.int .u8 (k.toNat : Int), .slice A n c], .agg #[.int .u8 (k2.toNat : Int), .slice A2 n2 c2]] w fun e w' => e = .returned (.bool false) ∧ Below w.heap.size w w' := by
  have hb := Lib.hid (bl_alloc (bl_alloc (bl0 w) (.cells #[.int .u8 (k.toNat : Int), .slice A n c] 33)) (.cells #[.int .u8 (k2.toNat : Int), .slice A2 n2 c2] 33))
  by_cases hk : k = k2
  · subst hk
    have hd : (l == l2) = false := by rw [beq_eq_false_iff_ne]; exact fun e => h ⟨rfl, e⟩
    have hs1 := run_str (h1.top hb.out)
    have hs2 := run_str (h2.top hb.out)
    go_enter Tryz.func77, Tryz.ntmps77
    go_wp2
    go_ret
    exact ⟨rfl, hb.out⟩
  · have hd := k_neq hk
    go_enter Tryz.func77, Tryz.ntmps77
    go_wp2
    go_ret
    exact ⟨rfl, hb.out⟩
set_option maxHeartbeats 400000 in
theorem Size_good {A : Option Addr} {n c : Nat} {k : UInt8} (w : World) (hk : k ≠ 0) (hn : n ≤ 8192) :
    Calls Tryz.prog 49 #[.agg #[.int .u8 (k.toNat : Int), .slice A n c]] w fun e w' => e = .returned (.int .i64 ((1 + (numSize n + n) + 8 : Nat) : Int)) ∧ Below w.heap.size w w' := by
  have hs := numSize_bd n
  have hb1 := Lib.hid (bl_alloc (bl0 w) (.cells #[.int .u8 (k.toNat : Int), .slice A n c] 33))
  go_enter Tryz.func49, Tryz.ntmps49
  go_wp2_with fail
  refine (Check_good _ hk hn).mono ?_; rintro e w1 ⟨rfl, hb⟩
  have hc := Lib.hid ((Bk.new w [.int .u8 (k.toNat : Int), .slice A n c] 33).keep hb)
  have hb2 := Lib.hid (bl_call hb1.out hb)
  have hc0 := hc.out.cell (k := 0) rfl
  have hc1 := hc.out.cell (k := 1) rfl
  clear hb hb1
  go_wp2_with fail
  refine (Number_any (A := none) (k := 0) (c := 0) (l := []) n w1 (Rd.nil _ _ _ _) (by omega) (by omega) (by omega)).mono ?_; rintro e w2 ⟨v2, rfl, ho2, hb3⟩
  have hl : ([] ++ numB (n : Int).toNat).length = numSize n := by rw [List.nil_append, numB_length]; rfl
  obtain ⟨A2, c2, rfl, hr2⟩ := ho2.rdN hl
  have hc' := Lib.hid (hc.out.keep hb3)
  have hb4 := Lib.hid (bl_call hb2.out hb3)
  have hd0 := hc'.out.cell (k := 0) rfl
  have hd1 := hc'.out.cell (k := 1) rfl
  clear hb3 hc0 hc1 ho2 hr2 hl hb2
  go_wp2
  go_ret
  exact ⟨ret_int (by omega), hb4.out⟩
set_option maxHeartbeats 400000 in
theorem Size_bad {A : Option Addr} {n c : Nat} {k : UInt8} (w : World) (h : ¬ (k ≠ 0 ∧ n ≤ 8192)) :
    Calls Tryz.prog 49 #[.agg #[.int .u8 (k.toNat : Int), .slice A n c]] w fun e w' => e = .returned (.int .i64 0) ∧ Below w.heap.size w w' := by
  have hb1 := Lib.hid (bl_alloc (bl0 w) (.cells #[.int .u8 (k.toNat : Int), .slice A n c] 33))
  have H := Lib.hid h
  clear h
  go_enter Tryz.func49, Tryz.ntmps49
  go_wp2_with fail
  refine (Check_bad _ H.out).mono ?_; rintro e w1 ⟨rfl, hb⟩
  have hb2 := Lib.hid (bl_call hb1.out hb)
  clear hb hb1
  go_wp2
  go_ret
  exact ⟨rfl, hb2.out⟩
end Go.Proofs.YtgpfognglpfmoaaGreatDoor
end
section
/- Results that lie in memory and beside it; record: Bytes. -/
namespace Go.Proofs.YtgpfognglpfmoaaGreatDoor
set_option maxRecDepth 8192
set_option linter.unusedSimpArgs false
set_option linter.unusedVariables false
open Go.RowKit

theorem load_bk {w : World} {g : Nat} {cs : List Value} {ty : TypeId} {d : TypeDesc} (hg : Bk w g cs) (hu : Tryz.prog.underlying ty = some d) (hd : d.isRow = true) (hi : (Tryz.prog.info? ty).map (·.size) = some cs.length) :
    (loadVar ty ⟨g, 0, none⟩).run Tryz.prog w = .ok (.agg cs.toArray) w := by
  obtain ⟨t, hg⟩ := hg
  exact run_loadVar_row w g t ty cs.toArray (0, 0) d hg hu (by cases d <;> first | rfl | cases hd) (by simpa using hi)
section
variable {fn : Func} {p q r s : Tmp} {ty ty2 : TypeId} {R : Ending → World → Prop} {a : Act} {w : World} {g g2 : Nat} {v v2 : Value}
theorem ret_tct (h : fn.results = #[.tmp p, .cell q ty, .tmp r]) (hd0 : a.defers = []) (hq : a.tmps.getD q undef = .pointer (some ⟨g, 0, none⟩)) (hl : (loadVar ty ⟨g, 0, none⟩).run Tryz.prog w = .ok v w)
    (hR : R (.returned (.tuple #[a.tmps.getD p undef, v, a.tmps.getD r undef])) w) : bodyPost Tryz.prog fn R .ret a w := by
  have hq' : a.tmps[q]?.getD undef = .pointer (some ⟨g, 0, none⟩) := by simpa using hq
  refine bodyPost_ret (v := .tuple #[a.tmps.getD p undef, v, a.tmps.getD r undef]) ?_ hd0 hR
  simp [results, h, hq', asAddr, hl]
theorem ret_ttc (h : fn.results = #[.tmp p, .tmp r, .cell q ty]) (hd0 : a.defers = []) (hq : a.tmps.getD q undef = .pointer (some ⟨g, 0, none⟩)) (hl : (loadVar ty ⟨g, 0, none⟩).run Tryz.prog w = .ok v w)
    (hR : R (.returned (.tuple #[a.tmps.getD p undef, a.tmps.getD r undef, v])) w) : bodyPost Tryz.prog fn R .ret a w := by
  have hq' : a.tmps[q]?.getD undef = .pointer (some ⟨g, 0, none⟩) := by simpa using hq
  refine bodyPost_ret (v := .tuple #[a.tmps.getD p undef, a.tmps.getD r undef, v]) ?_ hd0 hR
  simp [results, h, hq', asAddr, hl]
theorem ret_ctt (h : fn.results = #[.cell q ty, .tmp p, .tmp r]) (hd0 : a.defers = []) (hq : a.tmps.getD q undef = .pointer (some ⟨g, 0, none⟩)) (hl : (loadVar ty ⟨g, 0, none⟩).run Tryz.prog w = .ok v w)
    (hR : R (.returned (.tuple #[v, a.tmps.getD p undef, a.tmps.getD r undef])) w) : bodyPost Tryz.prog fn R .ret a w := by
  have hq' : a.tmps[q]?.getD undef = .pointer (some ⟨g, 0, none⟩) := by simpa using hq
  refine bodyPost_ret (v := .tuple #[v, a.tmps.getD p undef, a.tmps.getD r undef]) ?_ hd0 hR
  simp [results, h, hq', asAddr, hl]
theorem ret_ctct (h : fn.results = #[.cell q ty, .tmp p, .cell s ty2, .tmp r]) (hd0 : a.defers = []) (hq : a.tmps.getD q undef = .pointer (some ⟨g, 0, none⟩)) (hl : (loadVar ty ⟨g, 0, none⟩).run Tryz.prog w = .ok v w)
    (hs : a.tmps.getD s undef = .pointer (some ⟨g2, 0, none⟩)) (hl2 : (loadVar ty2 ⟨g2, 0, none⟩).run Tryz.prog w = .ok v2 w)
    (hR : R (.returned (.tuple #[v, a.tmps.getD p undef, v2, a.tmps.getD r undef])) w) : bodyPost Tryz.prog fn R .ret a w := by
  have hq' : a.tmps[q]?.getD undef = .pointer (some ⟨g, 0, none⟩) := by simpa using hq
  have hs' : a.tmps[s]?.getD undef = .pointer (some ⟨g2, 0, none⟩) := by simpa using hs
  refine bodyPost_ret (v := .tuple #[v, a.tmps.getD p undef, v2, a.tmps.getD r undef]) ?_ hd0 hR
  simp [results, h, hq', hs', asAddr, hl, hl2]
end

/-- No record may be of that Kind and Data: Bytes answers nothing. -/
def NoBytes (w : World) (e : Ending) (w' : World) : Prop := e = .returned (.tuple #[.slice none 0 0, .agg z36.toArray, .int .i64 2]) ∧ Below w.heap.size w w'
/-- A record's bytes, and the chain behind it. -/
def IsB (w : World) (S R : List UInt8) (e : Ending) (w' : World) : Prop := ∃ v, e = .returned (.tuple #[v, .agg (cs8 S).toArray, .int .i64 0]) ∧ Ow w' w.heap.size v R ∧ Below w.heap.size w w'

theorem built23 : Tryz.prog.built 59 [] = some z36.toArray := by kernel_rfl
theorem all_z36 : z36.toArray.all (·.oneCell') = true := by decide +kernel

theorem wpList_build {ops : Array Oper} {rest : List Oper} {o : Oper} {a : Act} {w : World} {Q : Exit → Act → World → Prop} (hgd : o.guard = none) (T : TypeId) (parts : Array (Nat × Operand)) (ho : o.op = .build T parts) (cells : Array Value)
    (hc : Tryz.prog.built T (parts.map fun (i, x) => (i, a.eval x)).toList = some cells) (h : wpList Tryz.prog ops Q rest (a.put o.dst (.agg cells)) w) : wpList Tryz.prog ops Q (o :: rest) a w :=
  wpList_plain hgd fun _ hK => by
    unfold Oper.wp execOp
    simp only [ho, Sem.run_bind, run_build w T _ cells hc, Result.andThen_ok]
    exact hK _ _ h

set_option maxHeartbeats 800000 in
theorem Bytes_bad {A : Option Addr} {n c : Nat} {k : UInt8} {C : List UInt8} (w : World) (h : ¬ (k ≠ 0 ∧ n ≤ 8192)) :
    Calls Tryz.prog 90 #[.agg (cs8 C).toArray, .agg #[.int .u8 (k.toNat : Int), .slice A n c]] w (NoBytes w) := by
  have H := Lib.hid h
  clear h
  go_enter Tryz.func90, Tryz.ntmps90
  go_wp2_with (refine wpList_alloc_z rfl 59 rfl z36 zero36 ?_)
  refine (Check_bad _ H.out).mono ?_; rintro e w1 ⟨rfl, hb⟩
  have hB := Lib.hid (bl_call (bl_alloc (bl_alloc (bl_alloc (bl0 w) (.cells (cs8 C).toArray 59)) (.cells #[.int .u8 (k.toNat : Int), .slice A n c] 33)) (.cells z36.toArray 59)) hb)
  have hZ : Hid (Bk w1 (w.heap.size + 1 + 1) z36) := Lib.hid (by
    have := (Bk.new ((w.alloc (.cells (cs8 C).toArray 59)).alloc (.cells #[.int .u8 (k.toNat : Int), .slice A n c] 33)) z36 59).keep hb
    simpa using this)
  clear hb
  go_wp2_with (first | (refine wpList_build rfl 59 _ rfl z36.toArray built23 ?_) | (refine wpList_store_bk rfl 59 _ _ rfl (w.heap.size + 1 + 1) rfl z36 z36 rfl hZ.out (by kernel_rfl) rfl all_z36 ?_))
  exact ret_tct rfl rfl rfl (load_bk (hZ.out.setRow z36) Tryz.underlying59 rfl (by kernel_rfl)) ⟨rfl, bl_setRow hB.out (by omega) _⟩
end Go.Proofs.YtgpfognglpfmoaaGreatDoor
end
