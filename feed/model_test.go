package feed_test

import (
	"fmt"
	"reflect"
	"strings"

	"herald/api"
	"herald/frame"
)

// The model goes by the chapter's lines: it keeps all that was ever pushed as one
// text, how much of it is behind it, and hands Read all the rest of it.

type told struct {
	f     api.Frame
	ok    bool
	fault api.Fault
}

type model struct {
	server  bool
	most    int64
	pushed  string
	behind  int
	greeted bool
	broken  []api.Fault
}

func newModel(server bool, most int64) *model { return &model{server: server, most: most} }

func (m *model) push(chunk string) { m.pushed += chunk }

func (m *model) setMost(most int64) { m.most = most }

func (m *model) waiting() int {
	if len(m.broken) > 0 {
		return 0
	}
	return len(m.pushed) - m.behind
}

func (m *model) breaks(code int64) told {
	m.broken = append(m.broken, api.Fault{Code: code})
	return told{fault: m.broken[0]}
}

func (m *model) next() told {
	if len(m.broken) > 0 {
		return told{fault: m.broken[0]}
	}
	if m.server && !m.greeted {
		want := "PRI * HTTP/2.0\r\n\r\nSM\r\n\r\n"
		for i := range min(len(m.pushed), 24) {
			if m.pushed[i] != want[i] {
				return m.breaks(1)
			}
		}
		if len(m.pushed) < 24 {
			return told{}
		}
		m.greeted, m.behind = true, 24
	}
	f, n, fault := frame.Read(m.pushed[m.behind:], m.most)
	m.behind += n
	if fault.Code != 0 && fault.Stream == 0 {
		return m.breaks(fault.Code)
	}
	return told{f, fault.Code == 0 && n > 0, fault}
}

// same takes an empty list of Params for none.
func same(a, b told) bool {
	if len(a.f.Params) == 0 && len(b.f.Params) == 0 {
		a.f.Params, b.f.Params = nil, nil
	}
	return reflect.DeepEqual(a, b)
}

// sameList is told apart by what a failed test can show.
func sameList(a, b []told) error {
	for i := range min(len(a), len(b)) {
		if !same(a[i], b[i]) {
			return fmt.Errorf("at %d: %s, want %s", i, shown(a[i]), shown(b[i]))
		}
	}
	if len(a) != len(b) {
		return fmt.Errorf("%d are told, want %d", len(a), len(b))
	}
	return nil
}

// shown keeps what a failed test tells readable.
func shown(x told) string {
	if !x.ok {
		return fmt.Sprintf("no frame (%+v) and the fault %v", short(x.f), x.fault)
	}
	return fmt.Sprintf("%+v and the fault %v", short(x.f), x.fault)
}

func short(f api.Frame) api.Frame {
	if len(f.Data) > 40 {
		f.Data = f.Data[:40] + ".."
	}
	f.Params = f.Params[:min(len(f.Params), 4)]
	return f
}

// bytesOf reads digits of base sixteen.
func bytesOf(digits string) string {
	var b strings.Builder
	for _, two := range strings.Fields(digits) {
		n := 0
		if _, err := fmt.Sscanf(two, "%x", &n); err != nil {
			panic(two)
		}
		b.WriteByte(byte(n))
	}
	return b.String()
}
