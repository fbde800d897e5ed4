/- The document's own reader: it does what octet's does, in the same plain words. -/
import Derived.Test.YtilcgnghhfiflaaRef
import Derived.Test.YtilcgnghhfiflaaPur
namespace Go.Proofs.Ytilcgnghhfiflaa
open Go.RowKit

/-- Block g is the document's reader: it has the bytes l ahead, and the first error e. -/
def Rfr (w : World) (g : Nat) (l : List UInt8) (e : Int) : Prop :=
  ∃ A n c, w.heap[g]? = some (.cells #[.slice A n c, .int .i64 e] 47 (0, 0)) ∧ Rd w g A n c l

section
variable {w w' : World} {g : Nat} {l : List UInt8} {e : Int}
theorem Rfr.lt (h : Rfr w g l e) : g < w.heap.size := by
  obtain ⟨_, _, _, hg, _⟩ := h
  exact (Array.getElem?_eq_some_iff.1 hg).1
theorem Rfr.below (h : Rfr w g l e) (hb : Below w.heap.size w w') : Rfr w' g l e := by
  have hlt := h.lt
  obtain ⟨A, n, c, hg, hr⟩ := h
  exact ⟨A, n, c, (hb.block g hlt).trans hg, hr.below (hb.mono (by omega))⟩
theorem Rfr.belowB {B : Nat} (h : Rfr w g l e) (hb : Below B w w') (hg : g < B) : Rfr w' g l e := by
  obtain ⟨A, n, c, hh, hr⟩ := h
  exact ⟨A, n, c, (hb.block g hg).trans hh, hr.below (hb.mono (by omega))⟩
theorem cells2 {a b : Value} {t : TypeId} (hg : w.heap[g]? = some (.cells #[a, b] t (0, 0))) :
    w.cell? ⟨g, 0, none⟩ = some a ∧ w.cell? ⟨g, 1, none⟩ = some b ∧ (∀ o, w.frozen? ⟨g, o, none⟩ = false) :=
  ⟨cell_of_row w g 0 _ t (0, 0) hg, cell_of_row w g 1 _ t (0, 0) hg, fun o => by simp [World.frozen?, hg]⟩
theorem Rd.apartR {top n c : Nat} {A : Option Addr} {l' : List UInt8} (h : Rd w top A n c l') (hR : Rfr w g l e) (hn : 0 < n) : ∀ ad, A = some ad → ad.block ≠ g := by
  obtain ⟨ad, rfl, _, u, _, hc⟩ := h.at_ hn
  intro ad' he hb
  injection he with he
  subst he
  obtain ⟨A2, n2, c2, hg, _⟩ := hR
  rw [show ad.add 0 = ad from rfl, World.cell?, hb, hg] at hc
  simp only at hc
  split at hc
  · cases hc
  · rcases hoff : ad.off with _ | _ | k <;> rw [hoff] at hc <;> simp [B8] at hc
theorem Rd.besideR {top n c : Nat} {A : Option Addr} {l' : List UInt8} (h : Rd w top A n c l') (hR : Rfr w g l e) (ho : Only g w w') (ht : top ≤ w.heap.size) : Rd w' top A n c l' := by
  refine ⟨h.1, h.2.1, fun hn => ?_⟩
  obtain ⟨ad, ha, hb, hc⟩ := h.2.2 hn
  have hne := h.apartR hR hn ad ha
  exact ⟨ad, ha, hb, fun j u hu => (ho.cell (p := ad.add j) (by rw [add_block]; omega) (by rw [add_block]; exact hne)).trans (hc j u hu)⟩
/-- The two kinds of readers lie apart. -/
theorem Rdr.ne_ {g2 : Nat} {l2 : List UInt8} {e2 : Int} (h : Rdr w g l e) (h2 : Rfr w g2 l2 e2) : g ≠ g2 := by
  rintro rfl
  obtain ⟨_, _, _, hg, _⟩ := h
  obtain ⟨_, _, _, hg2, _⟩ := h2
  rw [hg] at hg2
  simp at hg2
theorem Rfr.besideO {g2 : Nat} {l2 : List UInt8} {e2 : Int} (h : Rfr w g l e) (hR : Rdr w g2 l2 e2) (ho : Only g2 w w') : Rfr w' g l e := by
  have hlt := h.lt
  have hne : g ≠ g2 := fun e => hR.ne_ h e.symm
  obtain ⟨A, n, c, hg, hr⟩ := h
  exact ⟨A, n, c, (ho.block g hlt (fun e => hne (by injection e))).trans hg, hr.beside hR ho (by omega)⟩
theorem Rdr.besideF {g2 : Nat} {l2 : List UInt8} {e2 : Int} (h : Rdr w g l e) (hR : Rfr w g2 l2 e2) (ho : Only g2 w w') : Rdr w' g l e := by
  have hlt := h.lt
  have hne := h.ne_ hR
  obtain ⟨A, n, c, hg, hr⟩ := h
  exact ⟨A, n, c, (ho.block g hlt (fun e => hne (by injection e))).trans hg, hr.besideR hR ho (by omega)⟩
end

def LeftR (w : World) (g : Nat) (v : Value) (l : List UInt8) (e : Int) (x : Ending) (w' : World) : Prop :=
  x = .returned v ∧ Rfr w' g l e ∧ Only g w w'
def GaveR (w : World) (g : Nat) (r : List UInt8 × List UInt8 × Int) (x : Ending) (w' : World) : Prop :=
  ∃ v, x = .returned v ∧ Ow w' w.heap.size v r.1 ∧ Rfr w' g r.2.1 r.2.2 ∧ Only g w w'

set_option maxHeartbeats 400000 in
theorem refRead_any {A : Option Addr} {k c : Nat} {l : List UInt8} (w : World) (hr : Rd w w.heap.size A k c l) (hk : k ≤ 4294967296) :
    Calls Try.prog 25 #[.slice A k c] w fun x w' => ∃ g, x = .returned (.pointer (some ⟨g, 0, none⟩)) ∧ w.heap.size ≤ g ∧ Rfr w' g l 0 ∧ Below w.heap.size w w' := by
  have hl := Lib.hid hr.len
  have hb0 : Below w.heap.size w (w.alloc (.cells #[] 5)) := bl_alloc (bl0 w) _
  go_enter Try.func25, Try.ntmps25
  go_wp2_with (at_builtin; refine wpList_app rfl _ _ rfl rfl (Ow.lit w #[] [] rfl (by simp)) rfl (hr.below hb0) (by simp; omega) (by simp) ?_; intro v2 w2 ho2 hg2 hv2; rw [List.nil_append] at ho2; obtain ⟨A2, c2, rfl, hr2⟩ := ho2.rdN hl.out)
  have hb2 : Below w.heap.size w w2 := hb0.grown hg2 hb0.size (fun g hg => (World.ownsRow.lt (Ow.lit w #[] [] rfl (by simp)) g hg).1)
  go_ret
  exact ⟨_, rfl, hb2.size, ⟨A2, k, c2, heap_alloc_new w2 _, hr2.below (bl_alloc (bl0 w2) _)⟩, bl_alloc hb2 _⟩

/-- What is left of the memory behind a step of the document's reader. -/
theorem take_src {w : World} {g n c m : Nat} {A : Option Addr} {l : List UInt8} (hr : Rd w g A n c l) (hg : g < w.heap.size) (hm : m ≤ n) (v : Value) :
    Rd ((w.setCell ⟨g, 0, none⟩ v).alloc (.cells #[] 5)) g A m c (l.take m) :=
  ((hr.take_ hm).only (Only.set w 0 v) (Nat.le_of_lt hg) (Nat.le_refl _)).below ((Below.refl _ _).alloc (by simp [World.setCell]; omega) _)

theorem own_set (w : World) (g : Nat) (v : Value) : Ow ((w.setCell ⟨g, 0, none⟩ v).alloc (.cells #[] 5)) w.heap.size (.slice (some ⟨w.heap.size, 0, none⟩) 0 0) [] := by
  have := Ow.lit (w.setCell ⟨g, 0, none⟩ v) #[] [] rfl (by simp)
  simpa [World.setCell] using this
theorem take_close {w w2 : World} {g : Nat} {v v2 : Value} {p l2 : List UInt8} (hW : Rfr (w.setCell ⟨g, 0, none⟩ v) g l2 0) (ho2 : Ow w2 w.heap.size v2 ([] ++ p))
    (hg2 : ((w.setCell ⟨g, 0, none⟩ v).alloc (.cells #[] 5)).grownBy w2 (Value.slice (some ⟨w.heap.size, 0, none⟩) 0 0).ownBlock) : GaveR w g (p, l2, 0) (.returned v2) w2 := by
  have hs : (w.setCell ⟨g, 0, none⟩ v).heap.size = w.heap.size := by simp [World.setCell]
  have hb2 : Below (w.setCell ⟨g, 0, none⟩ v).heap.size (w.setCell ⟨g, 0, none⟩ v) w2 :=
    (bl_alloc (bl0 _) _).grown hg2 (bl_alloc (bl0 _) _).size (fun x hx => by simp only [Value.ownBlock, Option.some.injEq] at hx; omega)
  exact ⟨_, rfl, by simpa using ho2, hW.below hb2, (Only.set w 0 _).trans (Only.of_below hb2)⟩

set_option maxHeartbeats 400000 in
theorem refTake_any {w : World} {g : Nat} {l : List UInt8} {e : Int} (hR : Rfr w g l e) (n : Int) (hl : l.length ≤ 4294967296) :
    Calls Try.prog 31 #[.pointer (some ⟨g, 0, none⟩), .int .i64 n] w (GaveR w g (tk n.toNat l e)) := by
  obtain ⟨A, k, c, hg, hr⟩ := id hR
  obtain ⟨c0, c1, cf⟩ := cells2 hg
  have H := Lib.hid hg
  have hlen := hr.len
  have hlt := hR.lt
  clear hg
  obtain ⟨m, hm, hmn⟩ : ∃ m : Nat, max n 0 = (m : Int) ∧ n.toNat = m := ⟨n.toNat, by omega, rfl⟩
  rw [hmn]
  clear hmn
  by_cases he : e = 0
  · subst he
    by_cases hn : m ≤ k
    · have hk2 : m ≤ l.length := by omega
      have hcap := hr.cap
      have hnk : (m : Int) ≤ (k : Int) := by omega
      have hnc : (m : Int) ≤ (c : Int) := by omega
      have ht : tk m l 0 = (l.take m, l.drop m, 0) := by rw [tk, if_pos rfl, if_pos hk2]
      have HT := Lib.hid ht
      clear ht
      have hsrc := Lib.hid (take_src (m := m) hr hlt hn)
      by_cases hcm : c = m
      · have hcmi : (c : Int) = (m : Int) := by omega
        subst hcm
        go_enter Try.func31, Try.ntmps31
        go_wp2_with (at_builtin; refine wpList_app rfl _ _ rfl rfl (own_set w g _) rfl (hsrc.out _) (by simp; omega) (by simp) ?_; intro v2 w2 ho2 hg2 hv2)
        go_ret
        rw [HT.out, show l.drop c = [] from List.drop_eq_nil_of_le (by omega)]
        exact take_close ⟨_, _, _, set_at H.out 0 _, Rd.nil _ _ _ _⟩ ho2 hg2
      · have hcmi : ¬ (c : Int) = (m : Int) := by omega
        go_enter Try.func31, Try.ntmps31
        go_wp2_with (at_builtin; refine wpList_app rfl _ _ rfl rfl (own_set w g _) rfl (hsrc.out _) (by simp; omega) (by simp) ?_; intro v2 w2 ho2 hg2 hv2)
        go_ret
        rw [HT.out]
        have hd := hr.drop_ (k := m) hn
        rw [if_neg hcm] at hd
        exact take_close ⟨_, _, _, set_at H.out 0 _, (hd.only (Only.set w 0 _) (Nat.le_of_lt hlt) (Nat.le_refl _))⟩ ho2 hg2
    · have hk2 : ¬ m ≤ l.length := by omega
      have hnk : (k : Int) < (m : Int) := by omega
      go_enter Try.func31, Try.ntmps31
      go_wp2
      go_ret
      refine ⟨_, rfl, ?_, ?_, Only.set w 1 _⟩
      · rw [tk, if_pos rfl, if_neg hk2]; exact World.ownsRow_nil _ _ _ _
      · rw [tk, if_pos rfl, if_neg hk2]
        exact ⟨_, _, _, set_at H.out 1 _, hr.only (Only.set w 1 _) (Nat.le_of_lt hlt) (Nat.le_refl _)⟩
  · have hd : (e == 0) = false := by simpa using he
    go_enter Try.func31, Try.ntmps31
    go_wp2
    go_ret
    rw [tk, if_neg he]
    exact ⟨_, rfl, World.ownsRow_nil _ _ _ _, hR, Only.refl _ _⟩
end Go.Proofs.Ytilcgnghhfiflaa
