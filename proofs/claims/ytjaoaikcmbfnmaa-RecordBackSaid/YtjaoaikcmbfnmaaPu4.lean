/- Bytes put into a sum that is under way, whatever part of a piece it has. -/
import Derived.Test.YtjaoaikcmbfnmaaPu3
namespace Go.Proofs.Ytjaoaikcmbfnmaa
set_option maxRecDepth 8192
open Go.RowKit

theorem put_any {A : Option Addr} {n c : Nat} {l part : List UInt8} {KA st : List UInt64} {v : Value} {base g gk : Nat} (w : World) (hR : Run w base g gk KA st part v) (hp : part.length < 128) (hr : Rd w w.heap.size A n c l) (hn : n ≤ 4294967296)
    (hA : ∀ ad, A = some ad → ad.block ≠ g ∧ v.ownBlock ≠ some ad.block) :
    Calls Try.prog 42 #[.pointer (some ⟨g, 0, none⟩), .slice A n c] w fun e w' => e = .returned (.tuple #[]) ∧ Put w base g gk KA (eat KA ((part ++ l).length / 128) st (part ++ l)) (left (part ++ l)) v w' := by
  by_cases h0 : part.length = 0
  · obtain rfl := List.eq_nil_of_length_eq_zero h0
    exact put_nil w hR hr hn (fun ad h => (hA ad h).1) _ _ rfl rfl
  · by_cases hs : part.length + n < 128
    · exact put_small w hR rfl (by omega) hp hr hn hA _ _ rfl rfl hs
    · exact put_big w hR rfl (by omega) hp hr hn hA _ _ rfl rfl (by omega)

theorem left_length (l : List UInt8) : (left l).length < 128 := by
  rw [left, List.length_drop]
  omega
theorem eat_more (KA : List UInt64) (l : List UInt8) : ∀ (n : Nat) (X : List UInt8) (st : List UInt64), X.length / 128 = n →
    eat KA ((left X ++ l).length / 128) (eat KA n st X) (left X ++ l) = eat KA ((X ++ l).length / 128) st (X ++ l) ∧ left (left X ++ l) = left (X ++ l)
  | 0, X, st, h => by
    have e : left X = X := by rw [left, h]; rfl
    rw [e]
    exact ⟨rfl, rfl⟩
  | n + 1, X, st, h => by
    have h1 : 128 ≤ X.length := by omega
    have ih := eat_more KA l n (X.drop 128) (mix KA st (X.take 128)) (by rw [List.length_drop]; omega)
    have hl : left (X.drop 128) = left X := left_next X h1 _ rfl
    have hx : (X.take 128).length = 128 := by rw [List.length_take]; omega
    have hsp : X ++ l = X.take 128 ++ (X.drop 128 ++ l) := by rw [← List.append_assoc, List.take_append_drop]
    have e1 := eat_part KA st (X.take 128) (X.drop 128 ++ l) hx _ rfl
    have e2 := left_part (X.take 128) (X.drop 128 ++ l) hx _ rfl
    rw [← hsp] at e1 e2
    rw [hl, e1, e2] at ih
    rw [eat]
    exact ih
end Go.Proofs.Ytjaoaikcmbfnmaa
