/- What region 17 of ShaParts asks: two blocks that change, one operation at a time. -/
import Derived.Test.YtgpgolegedfjfaaPds
import Derived.Test.YtgpgolegedfjfaaPf
import Derived.Test.YtgpgolegedfjfaaArr
namespace Go.Proofs.Ytgpgolegedfjfaa
open Go.RowKit

/-- The block g, and the next. -/
def mayp (g k : Nat) : Prop := k = g ∨ k = g + 1
def z41 : List Value := cs8 (List.replicate 128 0)
theorem zero41 (w : World) : (zeroValue 41).run Try.prog w = .ok (.agg z41.toArray) w := zero_of (by kernel_rfl) w
theorem len_z41 : z41.length = 128 := by decide +kernel
theorem Bk.kp {may : Nat → Prop} {w w' : World} {g : Nat} {cs : List Value} (h : Bk w g cs) (hk : Kp may w w') (hm : ¬ may g) : Bk w' g cs := by
  have hl := h.lt
  obtain ⟨t, h⟩ := h
  exact ⟨t, (hk.block g hl hm).trans h⟩
theorem kp_setRow {may : Nat → Prop} (w : World) (g : Nat) (cs : Array Value) (hm : may g) : Kp may w (w.setRow g cs) :=
  ⟨rfl, rfl, rfl, by simp [World.setRow], fun k _ hk => setRow_other w g k cs (fun e => hk (by rw [e]; exact hm))⟩
theorem kp_drew {may : Nat → Prop} (w : World) : Kp may w w.drew := Kp.of_old (Below.refl _ _).drew
theorem wp_val {o : Oper} {a : Act} {w : World} {K : Act → World → Prop} {Q : Exit → Act → World → Prop} (v : Value) (h : (execOp a.eval o).run Try.prog w = .ok (.value v) w) (hk : K (a.put o.dst v) w) : o.wp Try.prog a w K Q := by
  unfold Oper.wp
  rw [h]
  exact hk
theorem region_meetP {c : Code} {a : Act} {w : World} {Q : Exit → Act → World → Prop} (S : World → Prop) (o n d : Nat) (v : Value) (h1 : c.wp Try.prog (fun e a' w' => e = .normal ∧ S w' ∧ ∃ vs, a' = (slots a o n vs).put (some d) v) a w)
    (h2 : ∀ vs w', S w' → Q .normal ((slots a o n vs).put (some d) v) w') : c.wp Try.prog Q a w :=
  Code.wp_mono (by rintro e a' w' ⟨rfl, hb, vs, rfl⟩; exact h2 vs w' hb) h1
theorem piece_cut {w : World} {top n c t : Nat} {ad : Addr} {P : List UInt8} (h : Rd w top (some ad) n c P) (hn : 0 < n) : ∀ (j : Nat) (u : Value), (cs8 ((P.drop (128 * t)).take 128))[j]? = some u → w.cell? ((ad.add (128 * t)).add j) = some u := by
  intro j u hj
  obtain ⟨ad', e, _, hc⟩ := h.2.2 hn
  injection e with e
  subst e
  rw [cs8, List.getElem?_map] at hj
  rw [List.getElem?_take] at hj
  split at hj
  · rw [List.getElem?_drop] at hj
    obtain ⟨b, hb, rfl⟩ := Option.map_eq_some_iff.1 hj
    rw [add_add]
    exact hc _ b hb
  · cases hj
end Go.Proofs.Ytgpgolegedfjfaa
