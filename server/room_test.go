package server_test

import (
	"fmt"
	"math"
	"slices"
	"testing"

	"herald/api"
)

// promised is a server that has promised so many streams on stream 1, whose own
// response is sent; pages have six bytes each.
func promised(t *testing.T, n int, params ...api.Param) *both {
	t.Helper()
	pages, rules := some(n + 1)
	b := begunWith(t, pages, rules, params...)
	b.ask("GET", "/0")
	for i := range n {
		b.wantStep(0, pushed(1, int64(2*i+2), fmt.Sprint("/", i+1)))
	}
	b.wantStep(0, answered(1, "200", 6, false))
	b.wantStep(0, dataEvent(1, "body 0", true))
	return b
}

// TestTheirStreams: so many promised streams may be open at a time.
func TestTheirStreams(t *testing.T) {
	for most := range 6 {
		b := promised(t, 4, param(api.SetStreams, int64(most)))
		for i := range min(most, 4) {
			b.wantReady(evens(4)...)
			b.wantStep(i, answered(int64(2*i+2), "200", 6, false))
		}
		b.wantReady(evens(min(most, 4))...)
		b.wantBusy()
		for i := range 4 {
			if most == 0 {
				break
			}
			b.wantStep(0, dataEvent(int64(2*i+2), fmt.Sprint("body ", i+1), true))
			if next := most + i + 1; next <= 4 {
				want := append(slices.Clone(evens(next - 1)[i+1:]), evens(4)[next-1:]...)
				b.wantReady(want...)
				b.wantStep(most-1, answered(int64(2*next), "200", 6, false))
			}
		}
		if b.s.Idle() != (most > 0) {
			t.Errorf("P22.5: %s: Idle() = %v", b.history(), b.s.Idle())
		}
		b.whole()
	}
}

// TestEmptyBodiesTakeNoRoom: a head that ends its stream leaves it closed.
func TestEmptyBodiesTakeNoRoom(t *testing.T) {
	b := begunWith(t, []api.Page{page("/a", "A"), page("/b", ""), page("/c", ""), page("/d", "D")}, []api.Rule{rule("/a /b /c /d")}, param(api.SetStreams, 1))
	b.ask("GET", "/a")
	b.step(0)
	b.step(0)
	b.step(0)
	b.wantReady(1, 2, 4, 6)
	b.wantStep(1, answered(2, "200", 0, true))
	b.wantReady(1, 4, 6)
	b.wantStep(2, answered(6, "200", 1, false))
	b.wantReady(1, 6)
	b.wantStep(1, dataEvent(6, "D", true))
	b.wantStep(1, answered(4, "200", 0, true))
	b.wantStep(0, answered(1, "200", 1, false))
	b.whole()
}

// TestRoomByReset: a stream that is reset, by either end, makes room for another;
// one that has only been promised doesn't take any.
func TestRoomByReset(t *testing.T) {
	b := promised(t, 4, param(api.SetStreams, 1))
	b.wantStep(1, answered(4, "200", 6, false))
	b.wantReady(4)
	b.recv(bytes(resetFrame(2, cancel)))
	b.wantReady(4)
	b.recv(bytes(resetFrame(4, cancel)))
	b.wantReady(6, 8)
	b.wantStep(1, answered(8, "200", 6, false))
	b.wantReady(8)
	b.recv(bytes(windowFrame(8, 0))) // wrong: the stream is reset
	b.wantReady(6)
	b.wantStep(0, resetEvent(8, protocol), answered(6, "200", 6, false))
	b.wantStep(0, dataEvent(6, "body 3", true))
	b.wantIdle()
	b.whole()
}

// TestStreamsChange: more room lets heads go, less lets DATA go on.
func TestStreamsChange(t *testing.T) {
	b := promised(t, 4, param(api.SetStreams, 0))
	b.wantReady()
	b.recv(bytes(settingsFrame(param(api.SetStreams, 2))))
	b.wantReady(2, 4, 6, 8)
	b.wantStep(0, acked(), answered(2, "200", 6, false))
	b.wantStep(1, answered(4, "200", 6, false))
	b.wantReady(2, 4)
	b.recv(bytes(settingsFrame(param(api.SetStreams, 1))))
	b.wantStep(0, acked(), dataEvent(2, "body 1", true))
	b.wantReady(4)
	b.recv(bytes(settingsFrame(param(api.SetStreams, 0))))
	b.wantStep(0, acked(), dataEvent(4, "body 2", true))
	b.wantReady()
	b.wantBusy()
	b.recv(bytes(settingsFrame(param(api.SetStreams, 1<<32-1))))
	b.wantReady(6, 8)
	for !b.s.Idle() {
		b.step(1)
	}
	b.whole()
}

// TestStreamsOfTheClient: theirs Streams is nothing to what was asked for.
func TestStreamsOfTheClient(t *testing.T) {
	b := begun(t, param(api.SetStreams, 0), param(api.SetPush, 0))
	for range 5 {
		b.ask("GET", "/c")
	}
	for i := range 5 {
		b.wantReady(1, 3, 5, 7, 9)
		b.wantStep(i, answered(int64(2*i+1), "200", 2, false))
	}
	b.whole()
}

// TestPicks: the pick tells which of those that are ready goes, whatever number it is.
func TestPicks(t *testing.T) {
	for _, pick := range []int{0, 1, 2, 3, 4, 5, 6, 7, 8, 100, -1, -2, -3, -4, -5, -6, math.MaxInt, math.MinInt, math.MinInt + 1} {
		b := begun(t)
		for range 5 {
			b.ask("GET", "/c")
		}
		b.recv(bytes(resetFrame(5, 0)))
		ready := []int64{1, 3, 7, 9}
		b.wantReady(ready...)
		id := ready[((pick%4)+4)%4]
		b.wantStep(pick, answered(id, "200", 2, false))
		b.wantStep(pick, dataEvent(id, "CC", true))
		ready = slices.DeleteFunc(ready, func(x int64) bool { return x == id })
		b.wantReady(ready...)
		b.wantStep(pick, answered(ready[((pick%3)+3)%3], "200", 2, false))
		b.whole()
		b.recv(bytes(resetFrame(1, 0), resetFrame(3, 0), resetFrame(7, 0), resetFrame(9, 0)))
		b.wantStep(pick)
		b.wantIdle()
	}
}

// reading is a server whose client, with these params, asked for a page with a body of
// so many bytes; the head is sent.
func reading(t *testing.T, size int, params ...api.Param) *both {
	t.Helper()
	b := begunWith(t, []api.Page{page("/big", long(size)), page("/c", "CC")}, nil, params...)
	b.ask("GET", "/big")
	b.wantStep(0, answered(1, "200", size, false))
	return b
}

// TestNoWindow: nothing goes through a window of 0; what is opened goes at once.
func TestNoWindow(t *testing.T) {
	b := reading(t, 10, param(api.SetWindow, 0))
	for range 2 {
		b.wantReady()
		b.wantBusy()
		b.wantStep(0)
	}
	b.recv(bytes(windowFrame(0, 100)))
	b.wantReady()
	for i := range 9 {
		b.recv(bytes(windowFrame(1, 1)))
		b.wantReady(1)
		b.wantStep(0, dataEvent(1, long(10)[i:i+1], false))
		b.wantReady()
		b.wantBusy()
	}
	b.recv(bytes(windowFrame(1, 1)))
	b.wantStep(0, dataEvent(1, long(10)[9:], true))
	b.wantIdle()
	b.whole()
}

// TestWindowBelowNothing: less is left than nothing, when theirs Window shrinks.
func TestWindowBelowNothing(t *testing.T) {
	b := reading(t, 30, param(api.SetWindow, 10))
	b.wantStep(0, dataEvent(1, long(30)[:10], false))
	b.wantReady()
	b.recv(bytes(settingsFrame(param(api.SetWindow, 4)))) // -6
	b.wantStep(0, acked())
	b.recv(bytes(windowFrame(1, 6)))
	b.wantReady()
	b.recv(bytes(windowFrame(1, 1)))
	b.wantReady(1)
	b.wantStep(0, dataEvent(1, long(30)[10:11], false))
	b.recv(bytes(settingsFrame(param(api.SetWindow, 8))))
	b.wantReady(1)
	b.wantStep(0, acked(), dataEvent(1, long(30)[11:15], false))
	b.recv(bytes(settingsFrame(param(api.SetWindow, 0))))
	b.wantStep(0, acked())
	id := b.ask("GET", "/c") // its own window is 0
	b.wantStep(0, answered(id, "200", 2, false))
	b.wantReady()
	b.recv(bytes(settingsFrame(param(api.SetWindow, top))))
	b.wantReady(1, id)
	b.wantStep(0, acked(), dataEvent(1, long(30)[15:], true))
	b.wantStep(0, dataEvent(id, "CC", true))
	b.wantIdle()
	b.whole()
}

// TestConnectionsWindow: all streams' DATA go through it; heads and promises don't.
func TestConnectionsWindow(t *testing.T) {
	pages := []api.Page{page("/big", long(65535)), page("/c", "CC"), page("/e", "")}
	b := begunWith(t, pages, []api.Rule{rule("/c /e")}, param(api.SetWindow, 70000))
	b.ask("GET", "/big")
	b.wantStep(0, answered(1, "200", 65535, false))
	for i := range 3 {
		b.wantStep(0, dataEvent(1, long(16384 * (i + 1))[16384*i:], false))
	}
	b.wantStep(0, dataEvent(1, long(65535)[49152:], true))
	b.ask("GET", "/c")
	b.wantStep(0, pushed(3, 2, "/e"))
	b.wantStep(1, answered(3, "200", 2, false))
	b.wantReady(2)
	b.wantStep(0, answered(2, "200", 0, true))
	b.wantReady()
	b.wantBusy()
	b.recv(bytes(windowFrame(3, 100)))
	b.wantReady()
	b.recv(bytes(windowFrame(0, 1)))
	b.wantReady(3)
	b.ask("HEAD", "/c")
	b.wantStep(0, dataEvent(3, "C", false))
	b.wantReady(5)
	b.wantStep(0, answered(5, "200", 2, true))
	b.recv(bytes(windowFrame(0, 1)))
	b.wantStep(0, dataEvent(3, "C", true))
	b.wantIdle()
	b.whole()
}

// TestSharedWindow: two streams take from the connection's window in turns.
func TestSharedWindow(t *testing.T) {
	b := begunWith(t, []api.Page{page("/big", long(40000))}, nil, param(api.SetWindow, 65536))
	b.ask("GET", "/big")
	b.ask("GET", "/big")
	b.step(0)
	b.step(1)
	at := map[int64]int{}
	for i, size := range []int{16384, 16384, 16384, 16383} { // 65535 in all
		id := int64(2*(i%2) + 1)
		b.wantReady(1, 3)
		b.wantStep(i, dataEvent(id, long(40000)[at[id]:at[id]+size], false))
		at[id] += size
	}
	b.wantReady()
	b.recv(bytes(windowFrame(0, 7233)))
	b.wantStep(1, dataEvent(3, long(40000)[at[3]:], true)) // 7233 are left of it
	b.wantReady()
	b.recv(bytes(windowFrame(0, top)))
	b.wantStep(1, dataEvent(1, long(40000)[at[1]:], true))
	b.wantIdle()
	b.whole()
}

// TestFrames: DATA is cut by theirs Frame, as it is at that moment.
func TestFrames(t *testing.T) {
	for _, most := range []int64{16384, 16385, 30000, 65535, 65536, 70000, 1<<24 - 1} {
		for _, size := range []int{1, 16383, 16384, 16385, 32768, 65535, 65536} {
			b := reading(t, size, param(api.SetFrame, most), param(api.SetWindow, top))
			b.recv(bytes(windowFrame(0, 100000)))
			for at := 0; at < size; {
				n := min(size-at, int(most), 65536)
				b.wantReady(1)
				b.wantStep(0, dataEvent(1, long(size)[at:at+n], at+n == size))
				at += n
			}
			b.wantIdle()
			b.whole()
		}
	}
	b := reading(t, 65536, param(api.SetWindow, top))
	b.recv(bytes(windowFrame(0, 100000)))
	b.wantStep(0, dataEvent(1, long(16384), false))
	b.recv(bytes(settingsFrame(param(api.SetFrame, 20000))))
	b.wantStep(0, acked(), dataEvent(1, long(65536)[16384:36384], false))
	b.recv(bytes(settingsFrame(param(api.SetFrame, 16384))))
	b.wantStep(0, acked(), dataEvent(1, long(65536)[36384:52768], false))
	b.whole()
}

// TestWindowOfOneByte: of either window, at bodies of one byte and of two.
func TestWindowOfOneByte(t *testing.T) {
	for _, size := range []int{1, 2} {
		b := reading(t, size, param(api.SetWindow, 1))
		b.wantStep(0, dataEvent(1, "0", size == 1))
		if size == 2 {
			b.wantReady()
			b.recv(bytes(settingsFrame(param(api.SetWindow, 2))))
			b.wantStep(0, acked(), dataEvent(1, "1", true))
		}
		b.wantIdle()
		b.whole()
	}
}

// TestWindowsOfAPush: a promised stream has its window from its promise on.
func TestWindowsOfAPush(t *testing.T) {
	b := promised(t, 1, param(api.SetWindow, 6))
	b.recv(bytes(settingsFrame(param(api.SetWindow, 1)), windowFrame(2, 1))) // 2 are left
	b.wantStep(0, acked(), answered(2, "200", 6, false))
	b.wantStep(0, dataEvent(2, "bo", false))
	b.wantReady()
	b.recv(bytes(windowFrame(2, 4)))
	b.wantStep(0, dataEvent(2, "dy 1", true))
	b.wantIdle()
	b.whole()
}

// TestWindowThatIsTooGreat: a stream whose window is opened too far is reset.
func TestWindowThatIsTooGreat(t *testing.T) {
	b := reading(t, 10)
	b.recv(bytes(windowFrame(1, top)))
	b.wantReady()
	b.wantStep(0, resetEvent(1, api.FlowControlError))
	b.wantIdle()
	b.whole()
}

// TestNothingWaitsForEver: with room for one of the streams at least each Step sends a
// unit, till all is sent: in no more Steps than there are units.
func TestNothingWaitsForEver(t *testing.T) {
	for _, pick := range []int{0, -1, 1, 7} {
		pages, rules := some(9)
		b := begunWith(t, pages, rules, param(api.SetStreams, 1), param(api.SetWindow, 3))
		for range 5 {
			b.ask("GET", "/0")
		}
		const most = 5 * (8 + 9*(1+2))
		for range most {
			if len(b.s.Ready()) == 0 {
				for _, line := range b.s.Log() {
					b.recv(bytes(windowFrame(line.Stream, 3)))
				}
			}
			if b.s.Idle() {
				break
			}
			if events := b.step(pick); len(events) != 1 {
				t.Fatalf("P22.5: %s: %s", b.history(), shownEvents(events))
			}
		}
		b.wantIdle()
		if log := b.s.Log(); len(log) != 45 {
			t.Errorf("P22.4: %s: %d were served", b.history(), len(log))
		}
		b.whole()
	}
}
