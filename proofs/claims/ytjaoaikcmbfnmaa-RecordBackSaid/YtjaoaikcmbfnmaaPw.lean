/- Words put as bytes: putWord, signs, padding. -/
import Derived.Test.YtjaoaikcmbfnmaaAr
import Derived.Test.YtjaoaikcmbfnmaaShelf
namespace Go.Proofs.Ytjaoaikcmbfnmaa
open Go.RowKit

/-- What every call that answers new bytes leaves. -/
def Gives (w : World) (l : List UInt8) (e : Ending) (w' : World) : Prop := ∃ v, e = .returned v ∧ Ow w' w.heap.size v l ∧ Below w.heap.size w w'
theorem Gives.mk {w w' : World} {l : List UInt8} {v : Value} (h : Ow w' w.heap.size v l) (hb : Below w.heap.size w w') : Gives w l (.returned v) w' := ⟨v, rfl, h, hb⟩

theorem wordB_length (n : UInt64) : ∀ t, (wordB t n).length = t
  | 0 => rfl
  | t + 1 => by simp [wordB, wordB_length n t]

theorem byte_at (n : UInt64) (k : Nat) : ((n.toNat : Int) / 2 ^ k % 256).toNat = n.toNat / 2 ^ k % 256 := by
  have : ((n.toNat : Int) / 2 ^ k % 256) = ((n.toNat / 2 ^ k % 256 : Nat) : Int) := by simp
  rw [this]
  exact Int.toNat_natCast _

set_option maxHeartbeats 400000 in
set_option maxRecDepth 3000 in
theorem putWord_any (v : Value) (n : UInt64) (w : World) (base : Nat) (xs : List UInt8) (hown : Ow w base v xs) (hbase : base ≤ w.heap.size) (hx : xs.length ≤ 8589934592) :
    Calls Try.prog 52 #[v, .int .u64 (n.toNat : Int)] w fun e w' => ∃ v', e = .returned v' ∧ Ow w' base v' (xs ++ wordB 8 n) ∧ Below base w w' := by
  have hn : n.toNat < 18446744073709551616 := n.toNat_lt
  go_enter Try.func52, Try.ntmps52
  go_wp2
  go_loopw [0, 6] (fun v i wr => ∃ t : Nat, t ≤ 8 ∧ i = .int .i64 (t : Int) ∧ Ow wr base v (xs ++ wordB t n) ∧ base ≤ wr.heap.size ∧ Below base w wr) (fun _ i _ => 8 - (intOf i).toNat)
  case atStart => exact ⟨0, by omega, rfl, by simpa [wordB] using hown, hbase, Below.refl _ _⟩
  case round =>
    obtain ⟨t, ht, rfl, ho, hs, hb⟩ := hrel
    by_cases hlt : t < 8
    · have hx0 := Lib.hid (show 0 ≤ (n.toNat : Int) / 2 ^ (56 - 8 * t) % 256 from Int.emod_nonneg _ (by omega))
      have hx1 := Lib.hid (show (n.toNat : Int) / 2 ^ (56 - 8 * t) % 256 < 256 from Int.emod_lt_of_pos _ (by omega))
      have hstep : Hid (xs ++ wordB t n ++ [UInt8.ofNat ((n.toNat : Int) / 2 ^ (56 - 8 * t) % 256).toNat] = xs ++ wordB (t + 1) n) := by
        rw [byte_at, wordB, List.append_assoc]
        exact Lib.hid rfl
      have hw := wordB_length n t
      go_wp2_with (at_builtin; refine wpList_app rfl _ _ rfl rfl (ho.alloc _) rfl (Rd.lit1 wr _ hx0.out hx1.out) (by simp; omega) (by simp; omega) ?_; intro v2 w2 ho2 hg2 hv2)
      go_roundw
      case rel => exact ⟨t + 1, by omega, by go_num, by rw [← hstep.out]; exact ho2, (by have := hg2.size; simp at this; omega), hb.trans (((Below.refl _ _).alloc hs _).grown hg2 (by simp; omega) (fun k hk => (World.ownsRow.lt ho k hk).1))⟩
      case measure => simp [intOf]; omega
    · go_wp2
      go_ret
      obtain rfl : t = 8 := by omega
      exact ⟨_, rfl, ho, hb⟩
end Go.Proofs.Ytjaoaikcmbfnmaa
