package sign

import (
	"sync"

	"headwater/api"
	"headwater/curve"
)

// memory has what was found in bytes that were looked at once. One is made for each call, so that no answer hangs on calls ahead.
type memory struct {
	sync.Mutex
	found map[api.Key]finding
}

// finding is what curve.Read answers.
type finding struct {
	point api.Point
	fault api.Errno
}

func newMemory() *memory { return &memory{found: map[api.Key]finding{}} }

// read answers what curve.Read does.
func (m *memory) read(k api.Key) (api.Point, api.Errno) {
	m.Lock()
	defer m.Unlock()
	f, there := m.found[k]
	if !there {
		f.point, f.fault = curve.Read(k)
		m.found[k] = f
	}
	return f.point, f.fault
}
