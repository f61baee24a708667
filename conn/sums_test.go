package conn_test

import (
	"testing"

	"herald/api"
)

// account is an end's sending windows, worked out from its log alone.
type account struct {
	b       *both
	theirs  api.Set
	conn    int64
	streams map[int64]int64
	block   api.Frame // the head of the one under way that comes
}

// holdSums goes through the log: windows are sums, and no DATA of ours takes more than
// was there. It holds for as long as no frame was refused.
func (b *both) holdSums() {
	b.t.Helper()
	a := &account{b: b, theirs: standard(), conn: 65535, streams: map[int64]int64{}}
	for _, x := range b.c.Log() {
		if x.Sent {
			a.sent(x.F)
		} else {
			a.got(x.F)
		}
	}
	if n := b.c.Window(0); n != a.conn {
		b.t.Fatalf("P21.4: %s: the connection's window is %d, by the log %d", b.history(), n, a.conn)
	}
	for id, want := range a.streams {
		if s := b.c.State(id); s == closed || s == idle {
			want = 0
		}
		if n := b.c.Window(id); n != want {
			b.t.Fatalf("P21.4: %s: the window of %d is %d, by the log %d", b.history(), id, n, want)
		}
	}
}

func (a *account) born(id int64) {
	if _, is := a.streams[id]; !is {
		a.streams[id] = a.theirs.Window
	}
}

func (a *account) sent(f api.Frame) {
	a.b.t.Helper()
	switch f.Type {
	case api.FrameHeaders:
		a.born(f.Stream)
	case api.FramePromise:
		a.born(f.Last)
	case api.FrameData:
		n := int64(len(f.Data))
		if n > 0 && (n > a.conn || n > a.streams[f.Stream]) || n > a.theirs.Frame || f.Pad != 0 || f.Flags&api.Padded != 0 {
			a.b.t.Fatalf("P21.4: %s: a DATA of %d bytes on %d, there were %d and %d", a.b.history(), n, f.Stream, a.conn, a.streams[f.Stream])
		}
		a.conn -= n
		a.streams[f.Stream] -= n
	}
}

func (a *account) got(f api.Frame) {
	switch f.Type {
	case api.FrameHeaders, api.FramePromise, api.FrameContinuation:
		if f.Type != api.FrameContinuation {
			a.block = f
		}
		if f.Flags&api.EndHeaders > 0 && a.block.Type == api.FramePromise {
			a.born(a.block.Last)
		} else if f.Flags&api.EndHeaders > 0 {
			a.born(a.block.Stream)
		}
	case api.FrameSettings:
		if f.Flags&api.Ack > 0 {
			return
		}
		set, _ := mApply(a.theirs, f.Params, !a.b.m.client)
		for id := range a.streams {
			a.streams[id] += set.Window - a.theirs.Window
		}
		a.theirs = set
	case api.FrameWindow:
		if f.Stream == 0 {
			a.conn += f.Last
		} else {
			a.streams[f.Stream] += f.Last
		}
	}
}

// TestSums: what is sent, given and shifted, in all orders of some of each.
func TestSums(t *testing.T) {
	steps := []func(b *both){
		func(b *both) { b.data(1, long(30), false) },
		func(b *both) { b.data(3, long(7), false) },
		func(b *both) { b.recv(bytes(windowFrame(1, 10), windowFrame(0, 5))) },
		func(b *both) { b.recv(bytes(settingsFrame(param(4, 20)))) },
		func(b *both) { b.recv(bytes(settingsFrame(param(4, 100), param(4, 60)))) },
		func(b *both) { b.mustOpen(false); b.reset(3, 0) },
	}
	var orders func(b []int)
	orders = func(order []int) {
		if len(order) < 4 {
			for i := range steps {
				orders(append(order[:len(order):len(order)], i))
			}
			return
		}
		b := sender(t, true, param(4, 50))
		b.mustOpen(false)
		for _, i := range order {
			steps[i](b)
			b.holdSums()
		}
	}
	orders(nil)
}
