package scalar

import (
	"cmp"
	"math/bits"
	"slices"

	"headwater/api"
)

// words is a number as four words, the high one first, so that the first that differs tells which number is less. What is reckoned with is below L, so that a sum of two never goes over the highest word.
// All is done in place: arrays handed over by value take more than twice the time.
type words [4]uint64

// order is L.
func order() words {
	return words{1 << 60, 0, 0x14def9dea2f79cd6, 0x5812631a5cf5d3ed}
}

func spread(a *api.Num) (w words) {
	for i, b := range slices.Backward(a[:]) {
		at := &w[len(w)-1-i/8]
		*at = *at<<8 | uint64(b)
	}
	return w
}

func (w *words) join() (a api.Num) {
	for i := range a {
		a[i] = byte(w[len(w)-1-i/8] >> (i % 8 * 8))
	}
	return a
}

// rest answers the rest of the number that the bytes are, the low one first.
func rest(b []byte) words { return times(b, &words{3: 1}) }

// times answers the number that the bytes are by w, which is below L.
func times(b []byte, w *words) (out words) {
	for _, octet := range slices.Backward(b) {
		for i := range 8 {
			out.add(&out)
			if octet<<i >= 1<<7 {
				out.add(w)
			}
		}
	}
	return out
}

func (w *words) add(v *words) {
	var over uint64
	w[3], over = bits.Add64(w[3], v[3], 0)
	w[2], over = bits.Add64(w[2], v[2], over)
	w[1], over = bits.Add64(w[1], v[1], over)
	w[0] += v[0] + over
	w.lower()
}

// lower takes L away where w, which is below 2L, is not below L.
func (w *words) lower() {
	l := order()
	if !w.below(&l) {
		w.takeAway(&l)
	}
}

// takeAway takes v away, which is not more than w.
func (w *words) takeAway(v *words) {
	var under uint64
	w[3], under = bits.Sub64(w[3], v[3], 0)
	w[2], under = bits.Sub64(w[2], v[2], under)
	w[1], under = bits.Sub64(w[1], v[1], under)
	w[0] -= v[0] + under
}

func (w *words) below(v *words) bool {
	return slices.CompareFunc(w[:], v[:], cmp.Compare[uint64]) < 0
}
