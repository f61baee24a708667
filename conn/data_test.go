package conn_test

import (
	"strings"
	"testing"

	"herald/api"
)

// long is a text of so many bytes.
func long(n int) string { return strings.Repeat("0123456789abcdef", n/16+1)[:n] }

// dataOf is a DATA that takes so many bytes, so many of them padding.
func dataOf(id int64, n, pad int, end bool) api.Frame {
	f := api.Frame{Type: api.FrameData, Flags: endFlag(end), Stream: id, Data: long(n)}
	if pad > 0 {
		f.Flags |= api.Padded
		f.Data, f.Pad = long(n-pad), pad-1
	}
	return f
}

// receiver is an end with the stream 1 open and ours Window and Frame acknowledged.
func receiver(t *testing.T, client bool, window, frame int64) *both {
	t.Helper()
	set := standard()
	set.Window, set.Frame = window, frame
	b := standingWith(t, client, set)
	if client {
		b.mustOpen(false)
	} else {
		b.recv(bytes(headersFrame(1, requestBlock, false)))
	}
	return b
}

// TestDataAtTheStreamsWindow: at, just below and just above ours Window, padded and
// not, with its end and without.
func TestDataAtTheStreamsWindow(t *testing.T) {
	for _, client := range []bool{true, false} {
		for _, window := range []int64{0, 1, 2, 100, 256, 16000, 16384, 65535} {
			for _, by := range []int64{-1, 0, 1} {
				for _, pad := range []int{0, 1, 2, 256} {
					for _, end := range []bool{false, true} {
						if n := int(window + by); n >= 0 && pad <= n && n <= 65535 {
							wantData(t, client, window, n, pad, end)
						}
					}
				}
			}
		}
	}
}

func wantData(t *testing.T, client bool, window int64, n, pad int, end bool) {
	t.Helper()
	b := receiver(t, client, window, 65536)
	f := dataOf(1, n, pad, end)
	var waits []api.Frame
	if n > 0 {
		waits = append(waits, windowFrame(0, int64(n)))
	}
	if int64(n) > window {
		b.wantRecv(bytes(f), resetEvent(1, flow))
		b.wantControl(append(waits, resetFrame(1, flow))...)
		b.wantState(1, closed)
		return
	}
	if n > 0 && !end {
		waits = append(waits, windowFrame(1, int64(n)))
	}
	b.wantRecv(bytes(f), dataEvent(1, f.Data, end))
	b.wantControl(waits...)
}

// TestDataAtTheConnectionsWindow: 65535 bytes are the most that may come at once,
// whatever becomes of the stream.
func TestDataAtTheConnectionsWindow(t *testing.T) {
	for _, client := range []bool{true, false} {
		for _, window := range []int64{0, 65535, 65536, top} {
			for _, pad := range []int{0, 1, 256} {
				for _, end := range []bool{false, true} {
					for _, id := range []int64{1, 7} {
						b := receiver(t, client, window, 65536)
						b.wantRecv(bytes(dataOf(id, 65536, pad, end)), deadEvent(flow))
						last := int64(0)
						if !client {
							last = 1
						}
						b.wantControl(goAwayFrame(last, flow))
						b = receiver(t, client, window, 65536)
						b.recv(bytes(dataOf(id, 65535, pad, end)))
						b.control()
					}
				}
			}
		}
	}
}

// TestDataIsGivenBackAtOnce: so much comes in all as one likes, in pieces that the
// windows have room for.
func TestDataIsGivenBackAtOnce(t *testing.T) {
	for _, client := range []bool{true, false} {
		b := receiver(t, client, 16384, 16384)
		for range 20 {
			b.wantRecv(bytes(dataOf(1, 16384, 0, false)), dataEvent(1, long(16384), false))
		}
		b.wantRecv(bytes(dataOf(1, 10, 3, true)), dataEvent(1, long(7), true))
		text := b.control()
		if n := strings.Count(text, bytes(windowFrame(0, 16384))); n != 20 {
			t.Errorf("P21.4: %d of 20 are given back for the connection", n)
		}
		if !strings.HasSuffix(text, bytes(windowFrame(1, 16384), windowFrame(0, 10))) {
			t.Errorf("P21.4: at last is given back %s", shownBytes(text[len(text)-26:]))
		}
	}
}

// TestDataThatClosesAndFails: a stream that its frame has closed isn't reset, and
// more of it is a fault of the connection.
func TestDataThatClosesAndFails(t *testing.T) {
	set := standard()
	set.Window = 1
	for _, client := range []bool{true, false} {
		b := standingWith(t, client, set)
		last := int64(0)
		if client {
			b.mustOpen(true)
		} else {
			last = 1
			b.recv(bytes(headersFrame(1, requestBlock, false)))
			b.mustHead(1, true)
		}
		b.wantState(1, halfLocal)
		b.wantRecv(bytes(dataFrame(1, "ab", true)), resetEvent(1, flow))
		b.wantControl(windowFrame(0, 2))
		b.wantState(1, closed)
		b.want(b.reset(1, 0), api.ErrState)
		b.wantRecv(bytes(resetFrame(1, 0)))
		b.wantRecv(bytes(dataFrame(1, "c", true)), deadEvent(streamOver))
		b.wantControl(windowFrame(0, 1), goAwayFrame(last, streamOver))
	}
}

// TestOursWindowHoldsFromItsAck: a smaller one not ahead of it.
func TestOursWindowHoldsFromItsAck(t *testing.T) {
	for _, client := range []bool{true, false} {
		b := receiver(t, client, 100, 16384)
		set := standard()
		set.Window = 10
		b.must(b.settings(set))
		b.wantRecv(bytes(dataOf(1, 100, 0, false)), dataEvent(1, long(100), false))
		b.control()
		b.wantRecv(bytes(dataOf(1, 100, 0, false)), dataEvent(1, long(100), false))
		b.wantRecv(bytes(ackFrame()), api.Event{Kind: api.EventAck})
		b.wantRecv(bytes(dataOf(1, 10, 0, false)), dataEvent(1, long(10), false))
		b.wantRecv(bytes(dataOf(1, 11, 0, false)), resetEvent(1, flow))
	}
}

// sender is an end that may send DATA on stream 1 under what the peer has said.
func sender(t *testing.T, client bool, params ...api.Param) *both {
	t.Helper()
	b := standing(t, client, params...)
	if client {
		b.mustOpen(false)
	} else {
		b.recv(bytes(headersFrame(1, requestBlock, false)))
		b.mustHead(1, false)
	}
	return b
}

func wantSent(b *both, id int64, text string, end bool, n int) {
	b.t.Helper()
	want := dataFrame(id, text[:n], end && n == len(text))
	got, sent, e := b.data(id, text, end)
	if got != n || e != api.OK || sent != bytes(want) {
		b.t.Errorf("P21.4: %s: %d, %s, %d, want %d", b.history(), got, shownBytes(sent), e, n)
	}
}

// TestSentByTheLeastRoom: a DATA takes no more than the text, the peer's Frame and
// both windows have.
func TestSentByTheLeastRoom(t *testing.T) {
	for _, client := range []bool{true, false} {
		for _, window := range []int64{1, 5, 16383, 16384, 16385, 65535, 100000} {
			for _, frame := range []int64{16384, 20000, 65536, 16777215} {
				for _, n := range []int{1, 4, 5, 6, 16384, 16385, 65535, 65536, 70000} {
					for _, end := range []bool{false, true} {
						b := sender(t, client, api.Param{ID: api.SetWindow, Value: window}, api.Param{ID: api.SetFrame, Value: frame})
						room := min(n, 65535, int(window), int(min(frame, 65536)))
						wantSent(b, 1, long(n), end, room)
						b.wantWindow(0, 65535-int64(room))
						b.wantWindow(1, closedTo(b, 1, window-int64(room)))
						rest := long(n)[room:]
						_, _, e := b.data(1, rest, end)
						switch {
						case rest == "" && !end:
							b.want(e, api.ErrArg)
						case rest == "":
							b.want(e, api.ErrState) // it has ended
						case room == int(min(window, 65535)):
							b.want(e, api.ErrFull)
						default:
							b.want(e, api.OK)
						}
					}
				}
			}
		}
	}
}

// closedTo is 0 where the stream is closed.
func closedTo(b *both, id, n int64) int64 {
	if b.c.State(id) == closed {
		return 0
	}
	return n
}

// TestSentUnderBothWindows: they go down together, each is given by its own
// WINDOW_UPDATE.
func TestSentUnderBothWindows(t *testing.T) {
	b := sender(t, true, api.Param{ID: api.SetWindow, Value: 40000})
	other := b.mustOpen(false)
	for _, n := range []int{16384, 16384, 7232} {
		wantSent(b, 1, long(50000), true, n)
	}
	_, _, e := b.data(1, "x", true)
	b.want(e, api.ErrFull)
	wantSent(b, other, long(30000), false, 16384)
	wantSent(b, other, long(30000), false, 65535-40000-16384)
	b.wantWindow(0, 0)
	b.wantWindow(other, 40000-25535)
	_, _, e = b.data(other, "x", true)
	b.want(e, api.ErrFull)
	b.wantRecv(bytes(windowFrame(1, 5)))
	_, _, e = b.data(1, "x", true)
	b.want(e, api.ErrFull)
	b.wantRecv(bytes(windowFrame(0, 3)))
	wantSent(b, 1, "abcde", true, 3)
	b.wantRecv(bytes(windowFrame(0, 100)))
	wantSent(b, 1, "de", true, 2)
	b.wantState(1, halfLocal)
	wantSent(b, other, long(100), true, 98)
}

// TestSentEnds: an end alone needs no room.
func TestSentEnds(t *testing.T) {
	for _, client := range []bool{true, false} {
		b := sender(t, client, api.Param{ID: api.SetWindow, Value: 0})
		_, _, e := b.data(1, "x", true)
		b.want(e, api.ErrFull)
		_, _, e = b.data(1, "", false)
		b.want(e, api.ErrArg)
		wantSent(b, 1, "", true, 0)
		b.wantState(1, halfLocal)
		_, _, e = b.data(1, "", true)
		b.want(e, api.ErrState)
		b = sender(t, client, api.Param{ID: api.SetWindow, Value: 10})
		wantSent(b, 1, "0123456789", false, 10)
		b.wantRecv(bytes(settingsFrame(api.Param{ID: api.SetWindow, Value: 3})), api.Event{Kind: api.EventSettings})
		b.control()
		b.wantWindow(1, -7)
		_, _, e = b.data(1, "x", true)
		b.want(e, api.ErrFull)
		wantSent(b, 1, "", true, 0)
	}
}

// TestSentBehindControl: what waits goes ahead of it.
func TestSentBehindControl(t *testing.T) {
	b := sender(t, true)
	b.recv(bytes(pingFrame("abcdefgh"), dataFrame(1, "xy", false)))
	_, text, _ := b.data(1, "z", true)
	ping := api.Frame{Type: 6, Flags: 1, Data: "abcdefgh"}
	if want := bytes(ping, windowFrame(0, 2), windowFrame(1, 2), dataFrame(1, "z", true)); text != want {
		t.Errorf("P21.1: %s: %s, want %s", b.history(), shownBytes(text), shownBytes(want))
	}
}

// TestWindowUpdates: at the edges, of the connection and of streams.
func TestWindowUpdates(t *testing.T) {
	for _, client := range []bool{true, false} {
		for _, x := range []struct {
			n, code int64
		}{{0, protocol}, {1, 0}, {top - 65535, 0}, {top - 65534, flow}, {top, flow}} {
			b := sender(t, client)
			last := b.m.last(!client)
			if x.code == 0 {
				b.wantRecv(bytes(windowFrame(0, x.n)))
				b.wantControl()
				b.wantWindow(0, 65535+x.n)
			} else {
				b.wantRecv(bytes(windowFrame(0, x.n)), deadEvent(x.code))
				b.wantControl(goAwayFrame(last, x.code))
				b.wantWindow(0, 65535)
			}
			b = sender(t, client)
			if x.code == 0 {
				b.wantRecv(bytes(windowFrame(1, x.n)))
				b.wantControl()
				b.wantWindow(1, 65535+x.n)
			} else {
				b.wantRecv(bytes(windowFrame(1, x.n)), resetEvent(1, x.code))
				b.wantControl(resetFrame(1, x.code))
				b.wantWindow(1, 0)
			}
			b.wantWindow(0, 65535)
		}
	}
}

// TestWindowsOfPromised: a promised stream has its window from its promise on, at
// both ends.
func TestWindowsOfPromised(t *testing.T) {
	s := sender(t, false, api.Param{ID: api.SetWindow, Value: 100})
	s.mustPromise(1)
	s.wantWindow(2, 100)
	s.wantRecv(bytes(settingsFrame(api.Param{ID: api.SetWindow, Value: 70})), api.Event{Kind: api.EventSettings})
	s.wantWindow(2, 70)
	s.wantRecv(bytes(windowFrame(2, 5)))
	s.wantWindow(2, 75)
	s.wantWindow(4, 0)
	s.mustPromise(1)
	s.wantWindow(4, 70)
	s.mustHead(2, false)
	wantSent(s, 2, long(80), true, 75)
	s.wantWindow(2, 0)
	s.wantWindow(4, 70)
	c := sender(t, true, api.Param{ID: api.SetWindow, Value: 100})
	c.recv(bytes(promiseFrame(1, 2, requestBlock)))
	c.wantWindow(2, 100)
	c.wantRecv(bytes(settingsFrame(api.Param{ID: api.SetWindow, Value: 200}), headersFrame(2, answerBlock, false)), api.Event{Kind: api.EventSettings}, headEvent(2, answer(), false))
	c.wantWindow(2, 200)
	c.recv(bytes(dataFrame(2, "", true)))
	c.wantWindow(2, 0)
}
