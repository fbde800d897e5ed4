/- What sha's functions answer, as plain functions on words and bytes. -/
namespace Go.Proofs.Ytjaoaikcmbfnmaa

/-- A word turned right by k places. -/
def rotr (k : Nat) (x : UInt64) : UInt64 := UInt64.ofNat ((x.toNat * 2 ^ (64 - k) % 18446744073709551616) ||| (x.toNat / 2 ^ k))
def rot3 (a b c : Nat) (x : UInt64) : UInt64 := rotr a x ^^^ rotr b x ^^^ rotr c x
def shf3 (a b c : Nat) (x : UInt64) : UInt64 := rotr a x ^^^ rotr b x ^^^ UInt64.ofNat (x.toNat / 2 ^ c)
def wordStep (n : UInt64) (b : UInt8) : UInt64 := UInt64.ofNat (n.toNat * 256 % 18446744073709551616 ||| b.toNat)
/-- Eight bytes as a word, the high one first. -/
def wordOf (l : List UInt8) : UInt64 := l.foldl wordStep 0
/-- The first t bytes of a word. -/
def wordB : Nat → UInt64 → List UInt8
  | 0, _ => []
  | t + 1, n => wordB t n ++ [UInt8.ofNat (n.toNat / 2 ^ (56 - 8 * t) % 256)]
def nextW (p : List UInt8) (t : Nat) (ws : List UInt64) : UInt64 :=
  if t < 16 then wordOf ((p.drop (8 * t)).take 8) else ws.getD (t - 16) 0 + shf3 1 8 7 (ws.getD (t - 15) 0) + ws.getD (t - 7) 0 + shf3 19 61 6 (ws.getD (t - 2) 0)
/-- The first t words made from a piece. -/
def sch (p : List UInt8) : Nat → List UInt64
  | 0 => []
  | t + 1 => sch p t ++ [nextW p t (sch p t)]
structure S8 where
  a : UInt64
  b : UInt64
  c : UInt64
  d : UInt64
  e : UInt64
  f : UInt64
  g : UInt64
  h : UInt64
def S8.list (s : S8) : List UInt64 := [s.a, s.b, s.c, s.d, s.e, s.f, s.g, s.h]
def S8.of (l : List UInt64) : S8 := ⟨l.getD 0 0, l.getD 1 0, l.getD 2 0, l.getD 3 0, l.getD 4 0, l.getD 5 0, l.getD 6 0, l.getD 7 0⟩
def round (k w : UInt64) (s : S8) : S8 :=
  let t1 := s.h + rot3 14 18 41 s.e + (s.e &&& s.f ^^^ ~~~s.e &&& s.g) + k + w
  let t2 := rot3 28 34 39 s.a + (s.a &&& s.b ^^^ s.a &&& s.c ^^^ s.b &&& s.c)
  ⟨t1 + t2, s.a, s.b, s.c, s.d + t1, s.e, s.f, s.g⟩
def rounds (K W : List UInt64) : Nat → S8 → S8
  | 0, s => s
  | t + 1, s => round (K.getD t 0) (W.getD t 0) (rounds K W t s)
/-- The eight words behind a piece. -/
def mix (K st : List UInt64) (p : List UInt8) : List UInt64 := List.zipWith (· + ·) st (rounds K (sch p 80) 80 (S8.of st)).list
/-- The words behind n pieces. -/
def eat (K : List UInt64) : Nat → List UInt64 → List UInt8 → List UInt64
  | 0, st, _ => st
  | n + 1, st, l => eat K n (mix K st (l.take 128)) (l.drop 128)
/-- What stands behind n bytes. -/
def padB (n : Nat) : List UInt8 := 128 :: List.replicate ((239 - n % 128) % 128) 0 ++ wordB 8 (UInt64.ofNat (n * 8 / 18446744073709551616)) ++ wordB 8 (UInt64.ofNat (n * 8 % 18446744073709551616))
def signsOf (st : List UInt64) : List UInt8 := st.flatMap (wordB 8)
/-- The sum of all bytes l. -/
def sumOf (K st : List UInt64) (l : List UInt8) : List UInt8 := signsOf (eat K ((l ++ padB l.length).length / 128) st (l ++ padB l.length))
end Go.Proofs.Ytjaoaikcmbfnmaa
