/- Records in plain words: their bytes, the chain behind them, what is read of bytes. -/
import Derived.Test.YtjaoaikcmbfnmaaPur
import Derived.Test.YtjaoaikcmbfnmaaWw
namespace Go.Proofs.Ytjaoaikcmbfnmaa
open Go.RowKit

/-- A record's Kind, and its Data as a block. -/
def recP (k : UInt8) (d : List UInt8) : List UInt8 := [k] ++ (numB d.length ++ d)
/-- The chain behind it. -/
def nextR (C : List UInt8) (k : UInt8) (d : List UInt8) : List UInt8 := sumS (C ++ recP k d)
/-- Its bytes. -/
def recB (C : List UInt8) (k : UInt8) (d : List UInt8) : List UInt8 := recP k d ++ (nextR C k d).take 8
/-- It may be. -/
def Vr (k : UInt8) (d : List UInt8) : Prop := k ≠ 0 ∧ d.length ≤ 8192

theorem sumS_length' (l : List UInt8) : (sumS l).length = 32 := by rw [sumS, sumOf, List.length_take, signs_length, eat_length _ _ _ _ startS_length]; rfl
theorem nextR_length (C : List UInt8) (k : UInt8) (d : List UInt8) : (nextR C k d).length = 32 := sumS_length' _
theorem recP_length (k : UInt8) (d : List UInt8) : (recP k d).length = 1 + (numSize d.length + d.length) := by simp [recP, numB_length]; omega
theorem recB_length (C : List UInt8) (k : UInt8) (d : List UInt8) : (recB C k d).length = 1 + (numSize d.length + d.length) + 8 := by
  rw [recB, List.length_append, recP_length, List.length_take, nextR_length]; rfl

/-- What stands at the head of bytes: a Kind, Data, what is told of the chain, the rest, an error. -/
structure Part where
  kind : UInt8
  data : List UInt8
  told : List UInt8
  rest : List UInt8
  err : Int

def parse : List UInt8 → Part
  | [] => ⟨0, [], [], [], 5⟩
  | u :: t =>
    if u = 0 then ⟨0, [], [], [], 4⟩ else
    if 8192 < (rdNum t 0).1 then ⟨0, [], [], [], 4⟩ else
    ⟨u, (tk (rdNum t 0).1 (rdNum t 0).2.1 (rdNum t 0).2.2).1,
      (tk 8 (tk (rdNum t 0).1 (rdNum t 0).2.1 (rdNum t 0).2.2).2.1 (tk (rdNum t 0).1 (rdNum t 0).2.1 (rdNum t 0).2.2).2.2).1,
      (tk 8 (tk (rdNum t 0).1 (rdNum t 0).2.1 (rdNum t 0).2.2).2.1 (tk (rdNum t 0).1 (rdNum t 0).2.1 (rdNum t 0).2.2).2.2).2.1,
      (tk 8 (tk (rdNum t 0).1 (rdNum t 0).2.1 (rdNum t 0).2.2).2.1 (tk (rdNum t 0).1 (rdNum t 0).2.1 (rdNum t 0).2.2).2.2).2.2⟩

theorem tk_err (n : Nat) (l : List UInt8) (e : Int) (h : (tk n l e).2.2 = 0) : e = 0 ∧ n ≤ l.length ∧ (tk n l e).1 = l.take n ∧ (tk n l e).2.1 = l.drop n := by
  unfold tk at h ⊢
  by_cases he : e = 0
  · subst he
    by_cases hn : n ≤ l.length
    · simp [hn]
    · simp [hn] at h
  · simp [he] at h

/-- Bytes that begin with a record: it is read. -/
theorem parse_put (k : UInt8) (d s t : List UInt8) (hk : k ≠ 0) (hd : d.length ≤ 8192) (hs : s.length = 8) : parse (recP k d ++ s ++ t) = ⟨k, d, s, t, 0⟩ := by
  have h1 : recP k d ++ s ++ t = k :: (numB d.length ++ (d ++ (s ++ t))) := by simp [recP]
  have h2 := rdNum_put d.length (by omega) (d ++ (s ++ t))
  rw [h1, parse, if_neg hk, h2, if_neg (by simp only; omega)]
  simp only [tk_put d (s ++ t) d.length rfl, tk_put s t 8 hs]
theorem cut3 (n : Nat) (l : List UInt8) : l.take n ++ ((l.drop n).take 8 ++ (l.drop n).drop 8) = l := by rw [List.take_append_drop, List.take_append_drop]
/-- Bytes that are read as a record begin with it. -/
theorem parse_back (l : List UInt8) (h : (parse l).err = 0) : l = recP (parse l).kind (parse l).data ++ (parse l).told ++ (parse l).rest ∧ Vr (parse l).kind (parse l).data ∧ (parse l).told.length = 8 := by
  rcases l with _ | ⟨u, t⟩
  · cases h
  · rw [parse] at h ⊢
    by_cases hu : u = 0
    · rw [if_pos hu] at h; cases h
    · rw [if_neg hu] at h ⊢
      by_cases hn : 8192 < (rdNum t 0).1
      · rw [if_pos hn] at h; cases h
      · rw [if_neg hn] at h ⊢
        simp only at h ⊢
        obtain ⟨h1, h2, h3, h4⟩ := tk_err _ _ _ h
        obtain ⟨h5, h6, h7, h8⟩ := tk_err _ _ _ h1
        have hb := rdNum_back t h5
        rw [h3, h4, h8, h7]
        rw [h8] at h2
        have hl : (List.take (rdNum t 0).1 (rdNum t 0).2.1).length = (rdNum t 0).1 := by rw [List.length_take]; omega
        refine ⟨?_, ⟨hu, by rw [hl]; omega⟩, by rw [List.length_take]; omega⟩
        rw [recP, hl, List.append_assoc, List.append_assoc, List.append_assoc, cut3]
        conv => lhs; rw [hb]
        rfl

/-- The error that Read answers. -/
def readErr (C l : List UInt8) : Int :=
  if (parse l).err ≠ 0 then (parse l).err else if (parse l).told = (nextR C (parse l).kind (parse l).data).take 8 then 0 else 4

theorem take8_length (C : List UInt8) (k : UInt8) (d : List UInt8) : ((nextR C k d).take 8).length = 8 := by rw [List.length_take, nextR_length]; rfl
/-- What is put is read. -/
theorem read_put (C : List UInt8) (k : UInt8) (d t : List UInt8) (h : Vr k d) : parse (recB C k d ++ t) = ⟨k, d, (nextR C k d).take 8, t, 0⟩ ∧ readErr C (recB C k d ++ t) = 0 := by
  have hp := parse_put k d ((nextR C k d).take 8) t h.1 h.2 (take8_length C k d)
  have hp' : parse (recB C k d ++ t) = ⟨k, d, (nextR C k d).take 8, t, 0⟩ := hp
  refine ⟨hp', ?_⟩
  rw [readErr, hp']
  simp
/-- What is read was put. -/
theorem read_back (C l : List UInt8) (h : readErr C l = 0) : l = recB C (parse l).kind (parse l).data ++ (parse l).rest ∧ Vr (parse l).kind (parse l).data := by
  unfold readErr at h
  by_cases he : (parse l).err = 0
  · rw [if_neg (by simp [he])] at h
    by_cases ht : (parse l).told = (nextR C (parse l).kind (parse l).data).take 8
    · obtain ⟨h1, h2, _⟩ := parse_back l he
      refine ⟨?_, h2⟩
      rw [ht] at h1
      exact h1
    · rw [if_neg ht] at h; cases h
  · rw [if_pos he] at h; exact absurd h he
theorem read_ex (C l : List UInt8) (h : readErr C l = 0) : ∃ k d t, Vr k d ∧ l = recB C k d ++ t := ⟨_, _, _, (read_back C l h).2, (read_back C l h).1⟩
/-- Bytes that begin with a record, from a chain, begin with no other one. -/
theorem rec_one (C : List UInt8) (k k' : UInt8) (d d' t t' : List UInt8) (h : Vr k d) (h' : Vr k' d') (he : recB C k d ++ t = recB C k' d' ++ t') : k = k' ∧ d = d' ∧ t = t' := by
  have h1 := (read_put C k d t h).1
  rw [he, (read_put C k' d' t' h').1] at h1
  injection h1 with a b c d e
  exact ⟨a.symm, b.symm, d.symm⟩

/-- All of records' bytes, one behind the other. -/
def recsB (C : List UInt8) : List (UInt8 × List UInt8) → List UInt8
  | [] => []
  | r :: t => recB C r.1 r.2 ++ recsB (nextR C r.1 r.2) t
/-- The chain behind them. -/
def endR (C : List UInt8) : List (UInt8 × List UInt8) → List UInt8
  | [] => C
  | r :: t => endR (nextR C r.1 r.2) t
def Vrs (rs : List (UInt8 × List UInt8)) : Prop := ∀ r ∈ rs, Vr r.1 r.2

theorem recsB_append (C : List UInt8) : ∀ (a b : List (UInt8 × List UInt8)), recsB C (a ++ b) = recsB C a ++ recsB (endR C a) b
  | [], b => rfl
  | r :: a, b => by
    rw [List.cons_append, recsB, recsB, endR, recsB_append (nextR C r.1 r.2) a b, List.append_assoc]
theorem endR_append (C : List UInt8) : ∀ (a b : List (UInt8 × List UInt8)), endR C (a ++ b) = endR (endR C a) b
  | [], b => rfl
  | r :: a, b => by rw [List.cons_append, endR, endR, endR_append _ a b]
theorem endR_length (C : List UInt8) (hC : C.length = 32) : ∀ (a : List (UInt8 × List UInt8)), (endR C a).length = 32
  | [] => hC
  | r :: a => by rw [endR]; exact endR_length _ (nextR_length _ _ _) a
/-- Records that stand at the head of bytes, and nothing behind them that is read: they are just these. -/
theorem recs_one : ∀ (a b : List (UInt8 × List UInt8)) (C t t' : List UInt8), Vrs a → Vrs b → recsB C a ++ t = recsB C b ++ t' → readErr (endR C a) t ≠ 0 → readErr (endR C b) t' ≠ 0 → a = b ∧ t = t'
  | [], [], _, _, _, _, _, he, _, _ => ⟨rfl, by simpa [recsB] using he⟩
  | [], r :: b, C, t, t', _, hb, he, h1, _ => by
    refine absurd ?_ h1
    have hv := hb r (List.mem_cons_self)
    rw [recsB, recsB, List.nil_append, List.append_assoc] at he
    rw [he, endR]
    exact (read_put C r.1 r.2 _ hv).2
  | r :: a, [], C, t, t', ha, _, he, _, h2 => by
    refine absurd ?_ h2
    have hv := ha r (List.mem_cons_self)
    rw [recsB, recsB, List.nil_append, List.append_assoc] at he
    rw [← he, endR]
    exact (read_put C r.1 r.2 _ hv).2
  | r :: a, s :: b, C, t, t', ha, hb, he, h1, h2 => by
    rw [recsB, recsB, List.append_assoc, List.append_assoc] at he
    obtain ⟨e1, e2, e3⟩ := rec_one C _ _ _ _ _ _ (ha r List.mem_cons_self) (hb s List.mem_cons_self) he
    obtain rfl : r = s := Prod.ext e1 e2
    obtain ⟨f1, f2⟩ := recs_one a b _ t t' (fun x hx => ha x (List.mem_cons_of_mem _ hx)) (fun x hx => hb x (List.mem_cons_of_mem _ hx)) e3 h1 h2
    exact ⟨by rw [f1], f2⟩
/-- A record that is cut short is not read. -/
theorem cut_short (C : List UInt8) (k : UInt8) (d : List UInt8) (h : Vr k d) (n : Nat) (hn : n < (recB C k d).length) : readErr C ((recB C k d).take n) ≠ 0 := by
  intro he
  obtain ⟨k', d', t, hv, e⟩ := read_ex C _ he
  have h1 : recB C k d ++ [] = recB C k' d' ++ (t ++ (recB C k d).drop n) := by
    rw [← List.append_assoc, ← e, List.take_append_drop, List.append_nil]
  obtain ⟨e1, e2, e3⟩ := rec_one C _ _ _ _ _ _ h hv h1
  have := congrArg List.length e3
  simp only [List.length_nil, List.length_append, List.length_drop] at this
  omega
theorem read_nil (C : List UInt8) : readErr C [] ≠ 0 := by simp [readErr, parse]
end Go.Proofs.Ytjaoaikcmbfnmaa
