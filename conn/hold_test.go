package conn_test

import (
	"fmt"
	"slices"
	"strings"
	"testing"

	"herald/api"
	"herald/conn"
	"herald/frame"
	"herald/lists"
)

// both are a conn and its model, under the same calls: each answer is held against
// the model's, and so is every look behind each call.
type both struct {
	t    *testing.T
	c    *conn.Conn
	m    *model
	done []string

	looked int // entries of the log
}

const mostShownCalls = 12

// history is the calls so far, as an error tells them.
func (b *both) history() string {
	side := "a server"
	if b.m.client {
		side = "a client"
	}
	from := max(0, len(b.done)-mostShownCalls)
	return fmt.Sprintf("%s, call %d: %s", side, len(b.done), strings.Join(b.done[from:], ", "))
}

func (b *both) note(format string, a ...any) { b.done = append(b.done, fmt.Sprintf(format, a...)) }

func newBoth(t *testing.T, client bool, set api.Set) *both {
	t.Helper()
	c, e := conn.New(client, set)
	m, want := newModel(client, set)
	if e != want || c == nil {
		t.Fatalf("P21.1: New(%v, %v): %d, want %d", client, set, e, want)
	}
	b := &both{t: t, c: c, m: m}
	b.look()
	return b
}

// standing is one with the default set, which has the peer's SETTINGS, and the
// acknowledgement of its own.
func standing(t *testing.T, client bool, params ...api.Param) *both {
	t.Helper()
	return standingWith(t, client, standard(), params...)
}

func standingWith(t *testing.T, client bool, set api.Set, params ...api.Param) *both {
	t.Helper()
	b := newBoth(t, client, set)
	b.control()
	if !client {
		b.recv(api.Preface)
	}
	b.wantRecv(bytes(settingsFrame(params...), ackFrame()), api.Event{Kind: api.EventSettings}, api.Event{Kind: api.EventAck})
	b.control()
	return b
}

func (b *both) push(chunk string) {
	b.t.Helper()
	b.note("Push(%s)", lists.ShownText(chunk))
	b.c.Push(chunk)
	b.m.push(chunk)
	b.look()
}

func (b *both) next() ([]api.Event, bool) {
	b.t.Helper()
	b.note("Next()")
	events, is := b.c.Next()
	want, wantIs := b.m.next()
	if is != wantIs || !sameEvents(events, want) {
		b.t.Fatalf("P21.1: %s: %s, %v, want %s, %v", b.history(), shownEvents(events), is, shownEvents(want), wantIs)
	}
	b.look()
	return events, is
}

func (b *both) recv(chunk string) []api.Event {
	b.t.Helper()
	b.note("Recv(%s)", lists.ShownText(chunk))
	events := b.c.Recv(chunk)
	b.m.push(chunk)
	var want []api.Event
	for {
		more, is := b.m.next()
		if !is {
			break
		}
		want = append(want, more...)
	}
	if !sameEvents(events, want) {
		b.t.Fatalf("P21.1: %s: %s, want %s", b.history(), shownEvents(events), shownEvents(want))
	}
	b.look()
	return events
}

// wantRecv lets bytes come, and wants just these events.
func (b *both) wantRecv(chunk string, want ...api.Event) {
	b.t.Helper()
	if events := b.recv(chunk); !sameEvents(events, want) {
		b.t.Errorf("P21.1: %s: %s, want %s", b.history(), shownEvents(events), shownEvents(want))
	}
}

func (b *both) control() string {
	b.t.Helper()
	b.note("Control()")
	text, want := b.c.Control(), b.m.sent()
	b.sameBytes(text, want)
	b.look()
	return text
}

// wantControl wants just these frames to have waited.
func (b *both) wantControl(want ...api.Frame) {
	b.t.Helper()
	if text := b.control(); text != bytes(want...) {
		b.t.Errorf("P21.1: %s: %s, want %s", b.history(), shownBytes(text), shownBytes(bytes(want...)))
	}
}

func (b *both) sameBytes(text, want string) {
	b.t.Helper()
	if text != want {
		b.t.Fatalf("P21.1: %s: %s, want %s", b.history(), shownBytes(text), shownBytes(want))
	}
}

func (b *both) open(fields []api.Field, end bool) (int64, string, api.Errno) {
	b.t.Helper()
	b.note("Open(%s, %v)", lists.Shown(fields), end)
	id, text, e := b.c.Open(fields, end)
	wantID, want, wantE := b.m.open(fields, end)
	if id != wantID || e != wantE {
		b.t.Fatalf("P21.1: %s: %d, %d, want %d, %d", b.history(), id, e, wantID, wantE)
	}
	b.sameBytes(text, want)
	b.look()
	return id, text, e
}

func (b *both) head(id int64, fields []api.Field, end bool) (string, api.Errno) {
	b.t.Helper()
	b.note("Head(%d, %s, %v)", id, lists.Shown(fields), end)
	text, e := b.c.Head(id, fields, end)
	want, wantE := b.m.response(id, fields, end)
	if e != wantE {
		b.t.Fatalf("P21.1: %s: %d, want %d", b.history(), e, wantE)
	}
	b.sameBytes(text, want)
	b.look()
	return text, e
}

func (b *both) promise(id int64, fields []api.Field) (int64, string, api.Errno) {
	b.t.Helper()
	b.note("Promise(%d, %s)", id, lists.Shown(fields))
	promised, text, e := b.c.Promise(id, fields)
	wantID, want, wantE := b.m.promise(id, fields)
	if promised != wantID || e != wantE {
		b.t.Fatalf("P21.1: %s: %d, %d, want %d, %d", b.history(), promised, e, wantID, wantE)
	}
	b.sameBytes(text, want)
	b.look()
	return promised, text, e
}

func (b *both) data(id int64, piece string, end bool) (int, string, api.Errno) {
	b.t.Helper()
	b.note("Data(%d, %s, %v)", id, lists.ShownText(piece), end)
	n, text, e := b.c.Data(id, piece, end)
	wantN, want, wantE := b.m.data(id, piece, end)
	if n != wantN || e != wantE {
		b.t.Fatalf("P21.4: %s: %d, %d, want %d, %d", b.history(), n, e, wantN, wantE)
	}
	b.sameBytes(text, want)
	b.look()
	return n, text, e
}

func (b *both) reset(id, code int64) api.Errno {
	b.t.Helper()
	b.note("Reset(%d, %d)", id, code)
	e, want := b.c.Reset(id, code), b.m.reset(id, code)
	if e != want {
		b.t.Fatalf("P21.1: %s: %d, want %d", b.history(), e, want)
	}
	b.look()
	return e
}

func (b *both) settings(set api.Set) api.Errno {
	b.t.Helper()
	b.note("Settings(%v)", set)
	e, want := b.c.Settings(set), b.m.settings(set)
	if e != want {
		b.t.Fatalf("P21.1: %s: %d, want %d", b.history(), e, want)
	}
	b.look()
	return e
}

// must is for calls that the test needs to have gone well.
func (b *both) must(e api.Errno) {
	b.t.Helper()
	if e != api.OK {
		b.t.Fatalf("P21.1: %s: %d, want OK", b.history(), e)
	}
}

func (b *both) mustOpen(end bool) int64 {
	b.t.Helper()
	id, _, e := b.open(request(), end)
	b.must(e)
	return id
}

func (b *both) mustHead(id int64, end bool) {
	b.t.Helper()
	_, e := b.head(id, answer(), end)
	b.must(e)
}

func (b *both) mustPromise(id int64) int64 {
	b.t.Helper()
	promised, _, e := b.promise(id, request())
	b.must(e)
	return promised
}

// want wants a call to have been answered with an error.
func (b *both) want(e, want api.Errno) {
	b.t.Helper()
	if e != want {
		b.t.Errorf("P21.1: %s: %d, want %d", b.history(), e, want)
	}
}

func (b *both) wantState(id int64, want int) {
	b.t.Helper()
	if s := b.c.State(id); s != want {
		b.t.Errorf("P21.1: %s: State(%d) = %d, want %d", b.history(), id, s, want)
	}
}

func (b *both) wantWindow(id, want int64) {
	b.t.Helper()
	if n := b.c.Window(id); n != want {
		b.t.Errorf("P21.4: %s: Window(%d) = %d, want %d", b.history(), id, n, want)
	}
}

// look holds all looks against the model's: at each stream that was named, those
// beside it, and the edges of numbers.
func (b *both) look() {
	b.t.Helper()
	code, dead := b.c.Dead()
	if dead != b.m.dead || code != b.m.code {
		b.t.Fatalf("P21.5: %s: Dead() = %d, %v, want %d, %v", b.history(), code, dead, b.m.code, b.m.dead)
	}
	if theirs, ours := b.c.Theirs(), b.c.Ours(); theirs != b.m.theirs || ours != b.m.acked {
		b.t.Fatalf("P21.1: %s: Theirs() = %v, Ours() = %v, want %v, %v", b.history(), theirs, ours, b.m.theirs, b.m.acked)
	}
	if met, waits := b.c.Met(), b.c.Waits(); met != b.m.met || waits != (len(b.m.control) > 0) {
		b.t.Fatalf("P21.1: %s: Met() = %v, Waits() = %v, want %v, %v", b.history(), met, waits, b.m.met, len(b.m.control) > 0)
	}
	for _, local := range []bool{true, false} {
		if n, want := b.c.Opened(local), b.m.opened(local); n != want {
			b.t.Fatalf("P21.1: %s: Opened(%v) = %d, want %d", b.history(), local, n, want)
		}
	}
	b.lookAt(0, -1, 1, 2, least, greatest, top, top+1, 1<<32+1, b.m.last(true)+2, b.m.last(false)+2)
	for id := range b.m.streams {
		b.lookAt(id, id+1)
	}
	b.lookAtLog()
}

func (b *both) lookAt(ids ...int64) {
	b.t.Helper()
	for _, id := range ids {
		if s, want := b.c.State(id), b.m.state(id); s != want {
			b.t.Fatalf("P21.1: %s: State(%d) = %d, want %d", b.history(), id, s, want)
		}
		if n, want := b.c.Window(id), b.m.window(id); n != want {
			b.t.Fatalf("P21.4: %s: Window(%d) = %d, want %d", b.history(), id, n, want)
		}
	}
}

// lookAtLog holds what came since the last look; whole does it with all.
func (b *both) lookAtLog() {
	b.t.Helper()
	log := b.c.Log()
	from := min(b.looked, len(log), len(b.m.log))
	if !slices.EqualFunc(log[from:], b.m.log[from:], sameEntry) {
		b.t.Fatalf("P21.1: %s: Log() has %d entries, want %d, or others: %s, want %s", b.history(), len(log), len(b.m.log), shownLog(log), shownLog(b.m.log))
	}
	b.looked = len(log)
}

// whole holds all looks and the whole log against the model's.
func (b *both) whole() {
	b.t.Helper()
	b.looked = 0
	b.look()
}

func sameEntry(a, b api.Entry) bool { return a.Sent == b.Sent && sameFrame(a.F, b.F) }

func sameFrame(a, b api.Frame) bool {
	return a.Type == b.Type && a.Flags == b.Flags && a.Stream == b.Stream && a.Data == b.Data && a.Pad == b.Pad && a.Dep == b.Dep &&
		a.Excl == b.Excl && a.Weight == b.Weight && a.Code == b.Code && a.Last == b.Last && slices.Equal(a.Params, b.Params)
}

func sameEvent(a, b api.Event) bool {
	return a.Kind == b.Kind && a.Stream == b.Stream && a.Promised == b.Promised && lists.Same(a.Fields, b.Fields) && a.Data == b.Data && a.End == b.End && a.Code == b.Code
}

func sameEvents(a, b []api.Event) bool { return slices.EqualFunc(a, b, sameEvent) }

func shownEvents(l []api.Event) string {
	var all []string
	for _, e := range l {
		all = append(all, fmt.Sprintf("{kind %d stream %d promised %d %s %s end %v code %d}", e.Kind, e.Stream, e.Promised, lists.Shown(e.Fields), lists.ShownText(e.Data), e.End, e.Code))
	}
	return "[" + strings.Join(all, " ") + "]"
}

func shownLog(l []api.Entry) string {
	var all []string
	for _, x := range l[max(0, len(l)-6):] {
		way := "got"
		if x.Sent {
			way = "sent"
		}
		all = append(all, way+" "+shownFrame(x.F))
	}
	return strings.Join(all, ", ")
}

func shownFrame(f api.Frame) string {
	data := lists.ShownText(f.Data)
	f.Data = ""
	return fmt.Sprintf("%+v %s", f, data)
}

func shownBytes(text string) string {
	if len(text) > 120 {
		return fmt.Sprintf("% x .. (%d bytes)", text[:120], len(text))
	}
	return fmt.Sprintf("% x", text)
}

// bytes are those of right frames.
func bytes(frames ...api.Frame) string {
	var text strings.Builder
	for _, f := range frames {
		b, e := frame.Write(f)
		if e != api.OK {
			panic(fmt.Sprintf("a test writes a wrong frame: %+v", f))
		}
		text.WriteString(b)
	}
	return text.String()
}

// raw are those of any frame, a wrong one too.
func raw(kind, flags byte, id uint32, payload string) string {
	n := len(payload)
	return string([]byte{byte(n >> 16), byte(n >> 8), byte(n), kind, flags, byte(id >> 24), byte(id >> 16), byte(id >> 8), byte(id)}) + payload
}

func settingsFrame(params ...api.Param) api.Frame {
	return api.Frame{Type: api.FrameSettings, Params: params}
}

func ackFrame() api.Frame { return api.Frame{Type: api.FrameSettings, Flags: api.Ack} }

func dataFrame(id int64, data string, end bool) api.Frame {
	return api.Frame{Type: api.FrameData, Flags: endFlag(end), Stream: id, Data: data}
}

// headersFrame is whole.
func headersFrame(id int64, block string, end bool) api.Frame {
	return api.Frame{Type: api.FrameHeaders, Flags: api.EndHeaders | endFlag(end), Stream: id, Data: block}
}

func promiseFrame(id, promised int64, block string) api.Frame {
	return api.Frame{Type: api.FramePromise, Flags: api.EndHeaders, Stream: id, Last: promised, Data: block}
}

func resetFrame(id, code int64) api.Frame {
	return api.Frame{Type: api.FrameReset, Stream: id, Code: code}
}

func windowFrame(id, n int64) api.Frame {
	return api.Frame{Type: api.FrameWindow, Stream: id, Last: n}
}

func goAwayFrame(last, code int64) api.Frame {
	return api.Frame{Type: api.FrameGoAway, Last: last, Code: code}
}

func pingFrame(data string) api.Frame { return api.Frame{Type: api.FramePing, Data: data} }

func endFlag(end bool) int {
	if end {
		return api.EndStream
	}
	return 0
}

// The blocks of request and of answer, of no moving entries.
const (
	requestBlock = "\x82\x86\x84"
	answerBlock  = "\x88"
)

func request() []api.Field {
	return lists.Of(":method", "GET", ":scheme", "http", ":path", "/")
}

func answer() []api.Field { return lists.Of(":status", "200") }

func headEvent(id int64, fields []api.Field, end bool) api.Event {
	return api.Event{Kind: api.EventHead, Stream: id, Fields: fields, End: end}
}

func dataEvent(id int64, data string, end bool) api.Event {
	return api.Event{Kind: api.EventData, Stream: id, Data: data, End: end}
}

func promiseEvent(id, promised int64, fields []api.Field) api.Event {
	return api.Event{Kind: api.EventPromise, Stream: id, Promised: promised, Fields: fields}
}

func resetEvent(id, code int64) api.Event {
	return api.Event{Kind: api.EventReset, Stream: id, Code: code}
}

func deadEvent(code int64) api.Event { return api.Event{Kind: api.EventDead, Code: code} }
