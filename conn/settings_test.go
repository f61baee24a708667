package conn_test

import (
	"fmt"
	"testing"

	"herald/api"
	"herald/frame"
	"herald/lists"
)

func param(id int, value int64) api.Param { return api.Param{ID: id, Value: value} }

func settled() api.Event { return api.Event{Kind: api.EventSettings} }

func acked() api.Event { return api.Event{Kind: api.EventAck} }

// TestTheirSettings: what comes of each param, at both sides.
func TestTheirSettings(t *testing.T) {
	for _, client := range []bool{true, false} {
		for _, x := range []struct {
			params []api.Param
			want   api.Set
		}{
			{nil, standard()},
			{[]api.Param{param(1, 0)}, api.Set{Table: 0, Push: 1, Streams: top, Window: 65535, Frame: 16384, List: top}},
			{[]api.Param{param(1, 1<<32-1), param(3, 1<<32-1), param(6, 1<<32-1)}, api.Set{Table: top, Push: 1, Streams: top, Window: 65535, Frame: 16384, List: top}},
			{[]api.Param{param(2, 0)}, api.Set{Table: 4096, Push: 0, Streams: top, Window: 65535, Frame: 16384, List: top}},
			{[]api.Param{param(3, 0), param(6, 0), param(4, 0)}, api.Set{Table: 4096, Push: 1, Streams: 0, Window: 0, Frame: 16384, List: 0}},
			{[]api.Param{param(5, 16777215), param(4, top)}, api.Set{Table: 4096, Push: 1, Streams: top, Window: top, Frame: 65536, List: top}},
			{[]api.Param{param(4, 1), param(4, 2), param(0, 9), param(7, 9), param(65535, 1<<32-1), param(5, 16384)}, api.Set{Table: 4096, Push: 1, Streams: top, Window: 2, Frame: 16384, List: top}},
		} {
			b := standing(t, client)
			b.wantRecv(bytes(settingsFrame(x.params...)), settled())
			if b.c.Theirs() != x.want {
				t.Errorf("P21.1: %s: Theirs() = %v, want %v", b.history(), b.c.Theirs(), x.want)
			}
			b.wantControl(ackFrame())
			b.wantRecv(bytes(settingsFrame(), settingsFrame(param(3, 7))), settled(), settled())
			x.want.Streams = 7
			if b.c.Theirs() != x.want {
				t.Errorf("P21.1: %s: Theirs() = %v, want %v", b.history(), b.c.Theirs(), x.want)
			}
			b.wantControl(ackFrame(), ackFrame())
		}
	}
}

// TestTheirSettingsRefused: the first wrong param gives the code, and nothing of the
// list holds.
func TestTheirSettingsRefused(t *testing.T) {
	for _, client := range []bool{true, false} {
		pushOne := int64(0)
		if client {
			pushOne = protocol // no server says that
		}
		for _, x := range []struct {
			params []api.Param
			code   int64
		}{
			{[]api.Param{param(2, 1)}, pushOne}, {[]api.Param{param(2, 2)}, protocol}, {[]api.Param{param(2, 1<<32-1)}, protocol},
			{[]api.Param{param(4, top+1)}, flow}, {[]api.Param{param(4, 1<<32-1)}, flow}, {[]api.Param{param(5, 0)}, protocol}, {[]api.Param{param(5, 16383)}, protocol},
			{[]api.Param{param(5, 16777216)}, protocol}, {[]api.Param{param(4, 1<<31), param(2, 2)}, flow}, {[]api.Param{param(2, 2), param(4, 1<<31)}, protocol},
			{[]api.Param{param(1, 0), param(4, 1), param(3, 1), param(6, 1), param(2, 0), param(5, 1)}, protocol},
		} {
			b := sender(t, client)
			last := b.m.last(!client)
			if x.code == 0 {
				b.wantRecv(bytes(settingsFrame(x.params...)), settled())
				continue
			}
			b.wantRecv(bytes(settingsFrame(x.params...)), deadEvent(x.code))
			b.wantControl(goAwayFrame(last, x.code))
			if b.c.Theirs() != standard() || !b.c.Met() {
				t.Errorf("P21.1: %s: Theirs() = %v", b.history(), b.c.Theirs())
			}
			b.wantWindow(1, 65535)
		}
	}
}

// TestTheirWindowMovesStreams: each one that isn't closed, and not the connection's.
func TestTheirWindowMovesStreams(t *testing.T) {
	b := sender(t, true, param(4, 100))
	wantSent(b, 1, long(60), false, 60)
	second := b.mustOpen(false)
	gone := b.mustOpen(false)
	b.must(b.reset(gone, 0))
	b.control()
	b.recv(bytes(promiseFrame(1, 2, requestBlock)))
	for _, x := range []struct{ window, first, other int64 }{{101, 41, 101}, {0, -60, 0}, {59, -1, 59}, {60, 0, 60}, {100, 40, 100}, {top, top - 60, top}, {0, -60, 0}} {
		b.wantRecv(bytes(settingsFrame(param(4, x.window))), settled())
		b.wantWindow(1, x.first)
		b.wantWindow(second, x.other)
		b.wantWindow(2, x.other)
		b.wantWindow(gone, 0)
		b.wantWindow(0, 65535-60)
		b.control()
	}
	_, _, e := b.data(1, "x", false)
	b.want(e, api.ErrFull)
	b.wantRecv(bytes(windowFrame(1, 61)))
	wantSent(b, 1, "xy", false, 1)
	third := b.mustOpen(false)
	b.wantWindow(third, 0)
}

// TestTheirWindowAbove: a stream's window comes to the most, and not above it; what
// refuses one stream moves none.
func TestTheirWindowAbove(t *testing.T) {
	for _, client := range []bool{true, false} {
		for _, by := range []int64{-1, 0, 1} {
			b := sender(t, client, param(4, 1000))
			last := b.m.last(!client)
			var other int64
			if client {
				other = b.mustOpen(false)
			} else {
				other = b.mustPromise(1)
			}
			b.wantRecv(bytes(windowFrame(1, 500)))
			list := settingsFrame(param(1, 7), param(4, top), param(4, top-500+by), param(3, 9))
			if by <= 0 {
				b.wantRecv(bytes(list), settled())
				b.wantWindow(1, top+by)
				b.wantWindow(other, top-500+by)
				b.wantControl(ackFrame())
				continue
			}
			b.wantRecv(bytes(list), deadEvent(flow))
			b.wantControl(goAwayFrame(last, flow))
			b.wantWindow(1, 1500)
			b.wantWindow(other, 1000)
			if theirs := b.c.Theirs(); theirs.Window != 1000 || theirs.Table != 4096 || theirs.Streams != top {
				t.Errorf("P21.1: %s: Theirs() = %v", b.history(), theirs)
			}
		}
	}
}

// TestTheirWindowByTheWhole: what stands between the first and the last of a list
// moves nothing: neither up above the most nor down.
func TestTheirWindowByTheWhole(t *testing.T) {
	b := sender(t, true, param(4, 1000))
	b.recv(bytes(windowFrame(1, 1)))
	b.wantRecv(bytes(settingsFrame(param(4, top), param(4, 0), param(4, top), param(4, 1000))), settled())
	b.wantWindow(1, 1001)
	b.wantRecv(bytes(settingsFrame(param(4, top), param(4, 1001))), settled())
	b.wantWindow(1, 1002)
	b.wantRecv(bytes(settingsFrame(param(4, 0), param(4, top))), deadEvent(flow))
	b.wantWindow(1, 1002)
}

// TestClosedStreamsDoNotCount: what a window of a closed one would have come to is
// nothing.
func TestClosedStreamsDoNotCount(t *testing.T) {
	for _, ours := range []bool{true, false} {
		b := sender(t, true)
		b.recv(bytes(windowFrame(1, top-65535)))
		b.wantWindow(1, top)
		if ours {
			b.must(b.reset(1, 0))
		} else {
			b.recv(bytes(resetFrame(1, 0)))
		}
		b.wantRecv(bytes(settingsFrame(param(4, top))), settled())
	}
}

// TestTheirTable: each value is told to the packing, so the least and the last stand
// in the next block.
func TestTheirTable(t *testing.T) {
	ab := lists.Of("a", "b")
	for _, x := range []struct {
		params []api.Param
		block  string
	}{
		{nil, "\xbe"}, {[]api.Param{param(1, 4096)}, "\xbe"}, {[]api.Param{param(1, 1<<32-1)}, "\xbe"},
		{[]api.Param{param(1, 0)}, "\x20\x00\x01a\x01b"}, {[]api.Param{param(1, 0), param(1, 4096)}, "\x20\x3f\xe1\x1f" + adds},
		{[]api.Param{param(1, 100)}, "\x3f\x45\xbe"}, {[]api.Param{param(1, 4096), param(4, 1), param(1, 33), param(1, 100)}, "\x3f\x02\x3f\x45" + adds},
		{[]api.Param{param(1, 70000), param(1, 100), param(1, 70000)}, "\x3f\x45\x3f\xe1\x1f\xbe"},
	} {
		b := standing(t, true)
		_, first, _ := b.open(ab, true)
		if want := bytes(headersFrame(1, adds, true)); first != want {
			t.Fatalf("P21.1: %s: %s, want %s", b.history(), shownBytes(first), shownBytes(want))
		}
		b.wantRecv(bytes(settingsFrame(x.params...)), settled())
		_, text, _ := b.open(ab, true)
		if want := bytes(ackFrame(), headersFrame(3, x.block, true)); text != want {
			t.Errorf("P21.1: %s: %s, want %s", b.history(), shownBytes(text), shownBytes(want))
		}
	}
	b := standing(t, true)
	b.open(ab, true)
	b.recv(bytes(settingsFrame(param(1, 0)), settingsFrame(param(1, 4096))))
	_, text, _ := b.open(ab, true)
	if want := bytes(ackFrame(), ackFrame(), headersFrame(3, "\x20\x3f\xe1\x1f"+adds, true)); text != want {
		t.Errorf("P21.1: %s: %s, want %s", b.history(), shownBytes(text), shownBytes(want))
	}
}

// TestTheirFrame: blocks are cut by it, and no DATA is longer.
func TestTheirFrame(t *testing.T) {
	fields := lists.Of("x", long(40000))
	fields[0].Never = true
	for _, size := range []int64{16384, 20000, 39000, 65536} {
		s := sender(t, false, param(5, size), param(4, 100000))
		for _, text := range []string{sentHead(s, fields), sentPromise(s, fields)} {
			c := newBoth(t, true, api.Set{Table: 4096, Push: 1, Streams: top, Window: 65535, Frame: 65536, List: top})
			c.control()
			c.recv(bytes(settingsFrame(), ackFrame()))
			c.mustOpen(false)
			if events := c.recv(text); len(events) != 1 || !lists.Same(events[0].Fields, fields) {
				t.Errorf("P21.3: cut by %d: %s", size, shownEvents(events))
			}
			got := 0
			for _, x := range c.c.Log() {
				if !x.Sent && (x.F.Type == api.FrameHeaders || x.F.Type == api.FramePromise || x.F.Type == api.FrameContinuation) {
					got++
					if text, e := frame.Write(x.F); e != api.OK || int64(len(text)) > 9+size {
						t.Errorf("P21.1: cut by %d a frame has %d bytes", size, len(text))
					}
				}
			}
			if want := 1 + 30000/int(size); got < want || got > 3 {
				t.Errorf("P21.1: cut by %d there are %d frames", size, got)
			}
		}
		wantSent(s, 1, long(70000), true, int(min(size, 65535)))
	}
}

func sentHead(s *both, fields []api.Field) string {
	s.t.Helper()
	text, e := s.head(1, fields, false)
	s.must(e)
	return text
}

func sentPromise(s *both, fields []api.Field) string {
	s.t.Helper()
	_, text, e := s.promise(1, fields)
	s.must(e)
	return text
}

// TestOursFrame: it is the reading's most from its acknowledgement on, neither ahead
// of it nor with the bytes that stood behind it in one chunk.
func TestOursFrame(t *testing.T) {
	for _, client := range []bool{true, false} {
		set := standard()
		set.Frame = 20000
		long := raw(10, 0, 0, long(16385))
		b := newBoth(t, client, set)
		b.control()
		if !client {
			b.recv(api.Preface)
		}
		b.wantRecv(bytes(settingsFrame()), settled())
		b.wantRecv(long, deadEvent(frameSize))
		b = standingWith(t, client, set)
		b.wantRecv(long)
		b.wantRecv(raw(10, 0, 0, string(make([]byte, 20000))))
		b.must(b.settings(standard()))
		b.control()
		b.wantRecv(long+bytes(ackFrame())+long, acked(), deadEvent(frameSize))
		b = standingWith(t, client, set)
		b.wantRecv("\x00\x4e\x21\x0a\x00\x00\x00\x00\x00", deadEvent(frameSize)) // 20001
	}
}

// TestAcks: as many as SETTINGS were sent, in their order; what waits still to be
// sent can't be acknowledged.
func TestAcks(t *testing.T) {
	for _, client := range []bool{true, false} {
		b := newBoth(t, client, standard())
		if !client {
			b.recv(api.Preface)
		}
		b.wantRecv(bytes(settingsFrame()), settled())
		b.wantRecv(bytes(ackFrame()), deadEvent(protocol)) // not sent yet
		b = standing(t, client)
		b.wantRecv(bytes(ackFrame()), deadEvent(protocol))
		b = standing(t, client)
		sets := make([]api.Set, 5)
		for i := range sets {
			sets[i] = api.Set{Table: int64(i), Push: 1, Streams: int64(10 * i), Window: int64(100 * i), Frame: int64(16384 + i), List: int64(1024 + i)}
			b.must(b.settings(sets[i]))
			if i == 2 {
				b.control()
			}
		}
		for i := range 3 {
			b.wantRecv(bytes(ackFrame()), acked())
			if b.c.Ours() != sets[i] {
				t.Errorf("P21.1: %s: Ours() = %v, want %v", b.history(), b.c.Ours(), sets[i])
			}
		}
		b.wantRecv(bytes(ackFrame()), deadEvent(protocol))
		b.control()
		if b.c.Ours() != sets[2] {
			t.Errorf("P21.1: %s: Ours() = %v, want %v", b.history(), b.c.Ours(), sets[2])
		}
	}
}

// TestSettingsTellsDifferences: from those announced last, sent or not, to the new
// ones; nothing where nothing differs; of a server no Push.
func TestSettingsTellsDifferences(t *testing.T) {
	off := standard()
	off.Push, off.Streams = 0, 5
	more := off
	more.Window = 7
	for _, client := range []bool{true, false} {
		pushOff, pushOn := []api.Param{param(2, 0)}, []api.Param{param(2, 1)}
		if !client {
			pushOff, pushOn = nil, nil
		}
		b := standing(t, client)
		for _, set := range []api.Set{standard(), off, more, more, standard()} {
			b.must(b.settings(set))
		}
		b.wantControl(settingsFrame(), settingsFrame(append(pushOff, param(3, 5))...), settingsFrame(param(4, 7)), settingsFrame(), settingsFrame(append(pushOn, param(3, top), param(4, 65535))...))
		for range 5 {
			b.wantRecv(bytes(ackFrame()), acked())
		}
		if b.c.Ours() != standard() {
			t.Errorf("P21.1: %s: Ours() = %v", b.history(), b.c.Ours())
		}
	}
}

// TestSettingsErrors: a set that doesn't fit, and 64 that wait, sent or not.
func TestSettingsErrors(t *testing.T) {
	_, wrong := edgeSets()
	for _, client := range []bool{true, false} {
		for _, sent := range []int{0, 1, 30, 64} {
			b := newBoth(t, client, standard()) // its own waits too
			for i := range 63 {
				if i+1 == sent {
					b.control()
				}
				b.must(b.settings(standard()))
			}
			if sent == 64 {
				b.control()
			}
			for _, set := range wrong {
				b.want(b.settings(set), api.ErrArg)
			}
			b.want(b.settings(standard()), api.ErrFull)
			b.control()
			b.want(b.settings(standard()), api.ErrFull)
			if !client {
				b.recv(api.Preface)
			}
			b.wantRecv(bytes(settingsFrame(), ackFrame()), settled(), acked())
			set := standard()
			set.Window = 1
			b.must(b.settings(set))
			b.want(b.settings(standard()), api.ErrFull)
			for range 63 {
				b.wantRecv(bytes(ackFrame()), acked())
			}
			b.control()
			b.wantRecv(bytes(ackFrame()), acked())
			if b.c.Ours() != set {
				t.Errorf("P21.1: %s: Ours() = %v", b.history(), b.c.Ours())
			}
			b.wantRecv(bytes(ackFrame()), deadEvent(protocol))
		}
	}
}

// TestPings: one is answered with its bytes, an answer with nothing.
func TestPings(t *testing.T) {
	for _, client := range []bool{true, false} {
		b := standing(t, client)
		var want []api.Frame
		for i := range 5 {
			data := fmt.Sprintf("%08d", i)
			b.wantRecv(bytes(pingFrame(data)) + raw(6, 1, 0, "answered"))
			want = append(want, api.Frame{Type: 6, Flags: 1, Data: data})
		}
		b.wantControl(want...)
		b.wantRecv(raw(6, 0xfe, 0, "\x00\xff345678")) // flags that it hasn't
		b.wantControl(api.Frame{Type: 6, Flags: 1, Data: "\x00\xff345678"})
		b.wantRecv(raw(6, 0, 0, "1234567"), deadEvent(frameSize))
	}
}

// TestGoAways: they are told, and change nothing.
func TestGoAways(t *testing.T) {
	for _, client := range []bool{true, false} {
		b := sender(t, client)
		for _, x := range []struct{ last, code int64 }{{0, 0}, {top, 1<<32 - 1}, {1, 2}} {
			f := goAwayFrame(x.last, x.code)
			f.Data = "why"
			b.wantRecv(bytes(f), api.Event{Kind: api.EventGoAway, Stream: x.last, Code: x.code})
			b.wantControl()
		}
		wantSent(b, 1, "x", false, 1)
		if client {
			b.mustOpen(true)
			b.wantRecv(bytes(headersFrame(1, answerBlock, true)), headEvent(1, answer(), true))
		} else {
			b.mustPromise(1)
			b.wantRecv(bytes(headersFrame(3, requestBlock, true)), headEvent(3, request(), true))
		}
	}
}

// TestNothings: PRIORITY and unknown types, on all streams, change nothing.
func TestNothings(t *testing.T) {
	for _, client := range []bool{true, false} {
		b := sender(t, client)
		for _, id := range []int64{1, 2, 3, 4, 99, top - 1, top} {
			b.wantRecv(bytes(api.Frame{Type: 2, Stream: id, Dep: id, Excl: true, Weight: 1}))
			for _, kind := range []byte{10, 11, 200, 255} {
				b.wantRecv(raw(kind, 255, uint32(id), "any"))
				b.wantRecv(raw(kind, 0, 0, ""))
			}
		}
		b.wantControl()
	}
}
