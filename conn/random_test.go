package conn_test

import (
	"fmt"
	"math/rand"
	"slices"
	"strings"
	"testing"

	"herald/api"
	"herald/feed"
	"herald/pack"
)

// script is an end under random calls, and under frames of a peer that is mostly right.
type script struct {
	*both
	r     *rand.Rand
	enc   *pack.Encoder // the peer's
	came  int           // bytes
	sent  string        // by the end
	tried map[string]int
}

func newScript(t *testing.T, r *rand.Rand) *script {
	t.Helper()
	client := r.Intn(2) == 0
	s := &script{both: newBoth(t, client, randomSet(r)), r: r, enc: pack.NewEncoder(), tried: map[string]int{}}
	if !client {
		s.comes(api.Preface)
	}
	if r.Intn(20) > 0 {
		s.comes(s.theirSettings())
	}
	return s
}

// comes lets bytes come, whole or in two pieces, or read one thing a time.
func (s *script) comes(text string) {
	s.t.Helper()
	s.came += len(text)
	var events []api.Event
	switch s.r.Intn(3) {
	case 0:
		events = s.recv(text)
	case 1:
		at := s.r.Intn(len(text) + 1)
		events = append(s.recv(text[:at]), s.recv(text[at:])...)
	default:
		s.push(text)
		for {
			more, is := s.next()
			if !is {
				break
			}
			events = append(events, more...)
		}
	}
	for _, e := range events {
		code := fmt.Sprint(min(e.Code, 12))
		if e.Kind == api.EventGoAway {
			code = ""
		}
		s.tried[fmt.Sprint("event ", e.Kind, " ", code)]++
	}
	s.enc.SetMax(s.m.acked.Table)
}

func (s *script) stream() int64 {
	var born []int64
	for id := range s.m.streams {
		if s.m.state(id) != closed || s.r.Intn(6) == 0 {
			born = append(born, id)
		}
	}
	slices.Sort(born)
	switch {
	case s.r.Intn(60) == 0:
		return 1 + s.r.Int63n(40)
	case len(born) == 0:
		return 1
	}
	return oneOf(s.r, born...)
}

func (s *script) theirSettings() string {
	var l []api.Param
	for range s.r.Intn(4) {
		l = append(l, oneOf(s.r, param(1, oneOf(s.r, int64(0), 50, 100, 5000)), param(3, oneOf(s.r, int64(0), 1, 3, 100, 1<<32-1)), param(4, oneOf(s.r, int64(0), 3, 60, 500, 65535, top)),
			param(5, oneOf(s.r, int64(16384), 16777215)), param(6, oneOf(s.r, int64(70), 200, 65536)), param(9, s.r.Int63n(1<<32))))
	}
	if !s.m.client && s.r.Intn(4) == 0 {
		l = append(l, param(2, s.r.Int63n(2)))
	}
	if s.r.Intn(60) == 0 {
		l = append(l, oneOf(s.r, param(2, 1), param(2, 2), param(4, 1<<31), param(5, 1)))
	}
	return bytes(settingsFrame(l...))
}

// block is the bytes of HEADERS or of a PUSH_PROMISE, whole or in pieces.
func (s *script) block(head api.Frame) string {
	fields := randomFields(s.r)
	if pack.Size(fields) > 5000 {
		fields = nil
	}
	block, _ := s.enc.Encode(fields)
	if s.r.Intn(150) == 0 {
		block += oneOf(s.r, "\x80", "\x41", "\xff")
	}
	if s.r.Intn(3) > 0 {
		head.Flags |= api.EndHeaders
		head.Data = block
		return bytes(head)
	}
	at := s.r.Intn(len(block) + 1)
	head.Data = block[:at]
	rest := bytes(api.Frame{Type: 9, Flags: 4, Stream: head.Stream, Data: block[at:]})
	if s.r.Intn(60) == 0 {
		rest = oneOf(s.r, "", bytes(pingFrame("12345678")), raw(2, 0, 1, ""), raw(9, 0, 77, "")) + rest
	}
	return bytes(head) + rest
}

// deadly tells whether a frame on a stream would be the end; of such few are sent, so
// that an end lives for a while.
func (s *script) deadly(id int64, kind int) bool {
	if s.r.Intn(100) == 0 || s.m.isCut(id) {
		return false
	}
	at := s.m.state(id)
	return at == idle && !s.m.bears(id, kind, !s.m.client) || strings.ContainsRune("PC", rune(gotTable[at][kind]))
}

// frame is what the peer sends next.
func (s *script) frame() string {
	id, end := s.stream(), s.r.Intn(3) == 0
	switch n := s.r.Intn(40); {
	case n < 8 && s.deadly(id, dataKind):
		return ""
	case n < 8:
		size := oneOf(s.r, 0, 1, 2, 9, 10, 11, 99, 100, 101, 300)
		if s.r.Intn(3) == 0 {
			return bytes(dataOf(id, size+9, oneOf(s.r, 1, 2, 9), end))
		}
		return bytes(dataOf(id, size, 0, end))
	case n < 15:
		if !s.m.client && s.r.Intn(2) == 0 {
			id = s.m.last(true) + oneOf(s.r, int64(2), 2, 2, 4)
			id -= 1 - id%2
		}
		if s.deadly(id, headersKind) {
			return ""
		}
		return s.block(api.Frame{Type: api.FrameHeaders, Flags: endFlag(end), Stream: id})
	case n < 19 && (s.m.client || s.r.Intn(40) == 0):
		promised := s.m.last(false) + oneOf(s.r, int64(2), 2, 2, 2, 4)
		if s.r.Intn(60) == 0 {
			promised = s.r.Int63n(20)
		}
		if s.r.Intn(6) > 0 && s.m.last(true) > 0 {
			id = 1 + 2*s.r.Int63n(s.m.last(true)/2+1)
		}
		if at := s.m.state(id); s.r.Intn(50) > 0 && (id%2 == 0 || at != open && at != halfLocal && !s.m.isCut(id) || s.m.acked.Push == 0) {
			return ""
		}
		return s.block(api.Frame{Type: api.FramePromise, Stream: id, Last: promised})
	case n < 21 && !s.deadly(id, resetKind):
		return bytes(resetFrame(id, s.r.Int63n(14)))
	case n < 23:
		return s.theirSettings()
	case n < 27:
		if len(s.m.sentLists) == 0 && s.r.Intn(60) > 0 {
			return ""
		}
		return bytes(ackFrame())
	case n < 29:
		return bytes(pingFrame("12345678")) + raw(6, 1, 0, "abcdefgh")
	case n < 30:
		return bytes(goAwayFrame(s.r.Int63n(9), s.r.Int63n(14)))
	case n < 34 && !s.deadly(id, windowKind):
		return bytes(windowFrame(id, oneOf(s.r, int64(1), 9, 200, 1000, 0, top)))
	case n < 36:
		return bytes(windowFrame(0, oneOf(s.r, int64(1), 9, 200)))
	case n < 37:
		return bytes(api.Frame{Type: 2, Stream: s.r.Int63n(30) + 1, Weight: 1}) + raw(byte(10+s.r.Intn(200)), 5, uint32(id), "any")
	case n < 38 && s.m.state(id) != idle:
		return raw(2, 0, uint32(id), long(s.r.Intn(5)))
	}
	if s.r.Intn(30) > 0 {
		return ""
	}
	return raw(byte(s.r.Intn(12)), byte(s.r.Intn(256)), uint32(s.r.Intn(12)), long(s.r.Intn(20)))
}

// call is something that the end does.
func (s *script) call() {
	s.t.Helper()
	id, end := s.stream(), s.r.Intn(3) == 0
	switch n := s.r.Intn(12); {
	case n < 2:
		s.sent += s.control()
	case n < 4:
		_, text, e := s.open(randomFields(s.r), end)
		s.sent += text
		s.tried[fmt.Sprint("open ", int(e))]++
	case n < 6:
		text, e := s.head(id, randomFields(s.r), end)
		s.sent += text
		s.tried[fmt.Sprint("head ", int(e))]++
	case n < 7:
		_, text, e := s.promise(id, randomFields(s.r))
		s.sent += text
		s.tried[fmt.Sprint("promise ", int(e))]++
	case n < 9:
		_, text, e := s.data(id, long(oneOf(s.r, 0, 1, 9, 100, 700, 20000)), end)
		s.sent += text
		s.tried[fmt.Sprint("data ", int(e))]++
	case n < 10:
		s.tried[fmt.Sprint("reset ", int(s.reset(id, oneOf(s.r, int64(0), 8, 1<<32-1, 1<<32, -1))))]++
	default:
		set := randomSet(s.r)
		if s.r.Intn(9) == 0 {
			set.List = 7
		}
		s.tried[fmt.Sprint("settings ", int(s.settings(set)))]++
	}
}

// ends looks at all that the end has told and sent.
func (s *script) ends() {
	s.t.Helper()
	s.sent += s.control()
	s.whole()
	holdSent(s.both, s.sent, s.m.client)
	if code, dead := s.c.Dead(); dead {
		s.tried[fmt.Sprint("dead ", code)]++
		return
	}
	s.holdSums()
}

// holdSent reads all that an end has sent, behind a preface or not: right frames, and
// GOAWAY once at most, at the end, and just if it is dead.
func holdSent(b *both, text string, preface bool) {
	b.t.Helper()
	in := feed.New(preface, api.MaxFrame)
	in.Push(text)
	away := 0
	for {
		f, is, fault := in.Next()
		if fault != (api.Fault{}) {
			b.t.Fatalf("P21.1: %s: sends what is no frame: %v", b.history(), fault)
		}
		if !is {
			break
		}
		if away > 0 {
			b.t.Fatalf("P21.5: %s: sends behind GOAWAY", b.history())
		}
		if f.Type == api.FrameGoAway {
			away++
		}
	}
	if _, dead := b.c.Dead(); dead != (away == 1) || in.Waiting() > 0 {
		b.t.Fatalf("P21.5: %s: dead is %v, and there are %d GOAWAYs", b.history(), dead, away)
	}
}

// TestRandomScripts: calls and frames in turns, against the model.
func TestRandomScripts(t *testing.T) {
	r := rand.New(rand.NewSource(215))
	tried := map[string]int{}
	for range 2500 {
		s := newScript(t, r)
		for range 120 {
			if s.r.Intn(2) == 0 {
				s.call()
			} else {
				s.comes(s.frame())
			}
			if _, dead := s.c.Dead(); dead && s.r.Intn(8) == 0 {
				break
			}
		}
		s.ends()
		for what, n := range s.tried {
			tried[what] += n
		}
	}
	for _, what := range []string{
		"open 0", "open 6", "open 8", "open 51", "open 210", "head 0", "head 6", "head 8", "head 51", "head 210", "promise 0", "promise 8", "promise 51", "promise 210",
		"data 0", "data 1", "data 6", "data 8", "data 210", "reset 0", "reset 1", "reset 8", "reset 210", "settings 0", "settings 1", "settings 210",
		"event 1 0", "event 2 0", "event 3 0", "event 5 0", "event 6 0", "event 7 ", "event 4 1", "event 4 3", "event 4 5", "event 4 6", "event 4 7", "event 4 8", "event 4 11",
		"dead 1", "dead 3", "dead 5", "dead 6", "dead 9",
	} {
		if tried[what] < 12 {
			t.Errorf("%s %d times: too few to tell", what, tried[what])
		}
	}
}

// TestConnsApart: two ends of one side in turns, each by its own model.
func TestConnsApart(t *testing.T) {
	r := rand.New(rand.NewSource(216))
	for range 200 {
		both := []*script{newScript(t, r), newScript(t, r), newScript(t, r)}
		for range 150 {
			s := both[r.Intn(2)]
			if r.Intn(2) == 0 {
				s.call()
			} else {
				s.comes(s.frame())
			}
		}
		for _, s := range both {
			s.ends()
		}
	}
}

// mutated is a text with some of it changed, left out, laid in, or said twice.
func mutated(r *rand.Rand, text string) string {
	for range 1 + r.Intn(3) {
		at := r.Intn(len(text))
		to := min(len(text), at+1+r.Intn(12))
		switch r.Intn(5) {
		case 0:
			text = text[:at] + string([]byte{text[at] ^ 1<<r.Intn(8)}) + text[at+1:]
		case 1:
			text = text[:at] + string([]byte{byte(r.Intn(256))}) + text[at+1:]
		case 2:
			text = text[:at] + text[to:]
		case 3:
			text = text[:to] + text[at:]
		default:
			text = text[:at] + raw(byte(r.Intn(11)), byte(r.Intn(64)), uint32(r.Intn(8)), long(r.Intn(9))) + text[at:]
		}
		if text == "" {
			return "\x00"
		}
	}
	return text
}

// TestAnyBytes: right texts that were tampered with, against the model; at most one
// GOAWAY, and what waits is no more than the bytes that came can bring.
func TestAnyBytes(t *testing.T) {
	r := rand.New(rand.NewSource(217))
	right := slices.DeleteFunc(texts(), func(x text) bool { return x.name != "right" })
	lived := 0
	for range 6000 {
		x := oneOf(r, right...)
		b := newBoth(t, x.client, standard())
		if x.client {
			b.recv(bytes(settingsFrame()))
			b.mustOpen(false)
			b.mustOpen(true)
		}
		b.control()
		from := len(b.m.log)
		came := mutated(r, x.bytes)
		b.note("%x", came)
		b.recv(came)
		holdAfterBytes(b, came, from)
		if _, dead := b.c.Dead(); !dead {
			lived++
		}
	}
	if lived < 500 || lived > 5500 {
		t.Errorf("%d of 6000 ends lived: too few, or too many", lived)
	}
}

// holdAfterBytes looks at what bytes have left behind: frames that wait, of which none
// is there for nothing, and one GOAWAY at most. (from is where the log began.)
func holdAfterBytes(b *both, came string, from int) {
	b.t.Helper()
	_, dead := b.c.Dead()
	text := b.control()
	if most := 3*len(came) + 17; len(text) > most {
		b.t.Fatalf("P21.5: %s: %d bytes wait of %d that came", b.history(), len(text), len(came))
	}
	if n := strings.Count(shownLog(b.c.Log()), "sent {Type:7"); n > 1 || dead != (n == 1) {
		b.t.Fatalf("P21.5: %s: %d GOAWAYs", b.history(), n)
	}
	if text = b.control(); text != "" {
		b.t.Fatalf("P21.1: %s: twice waits %s", b.history(), shownBytes(text))
	}
	got := 0
	for _, x := range b.c.Log()[from:] {
		if !x.Sent {
			got += 9
		}
	}
	if got > len(came) {
		b.t.Fatalf("P21.5: %s: the log has %d bytes of frames' beginnings, %d came", b.history(), got, len(came))
	}
	b.whole()
}

// TestRandomBytes: bytes without any sense, to ends that stand and to new ones.
func TestRandomBytes(t *testing.T) {
	r := rand.New(rand.NewSource(218))
	for i := range 3000 {
		b := newBoth(t, i%2 == 0, standard())
		if i%4 > 1 {
			b = standing(t, i%2 == 0)
		}
		b.control()
		from := len(b.m.log)
		var came []byte
		for range r.Intn(60) {
			came = append(came, byte(r.Intn(256))>>r.Intn(9))
		}
		b.recv(string(came))
		holdAfterBytes(b, string(came), from)
	}
}

// fuzzed is an end with streams at several states.
func fuzzed(t *testing.T, client bool) *both {
	t.Helper()
	set := standard()
	set.Window, set.Streams, set.List = 20, 5, 1024
	b := standingWith(t, client, set, param(4, 30), param(3, 5))
	if client {
		b.mustOpen(false)
		b.mustOpen(true)
		b.mustOpen(false)
		b.reset(5, 8)
		b.recv(bytes(promiseFrame(1, 2, requestBlock), promiseFrame(1, 4, requestBlock), headersFrame(2, answerBlock, false)))
	} else {
		b.recv(bytes(headersFrame(1, requestBlock, false), headersFrame(3, requestBlock, true), headersFrame(5, requestBlock, false)))
		b.mustPromise(1)
		b.mustPromise(1)
		b.mustHead(2, false)
		b.reset(5, 8)
	}
	b.control()
	return b
}

// FuzzBytes: any bytes, whole against the model, and in two pieces against the whole.
func FuzzBytes(f *testing.F) {
	for _, x := range texts() {
		f.Add(x.client, strings.TrimPrefix(x.bytes, api.Preface), 20)
	}
	f.Fuzz(func(t *testing.T, client bool, came string, at int) {
		if len(came) > 4000 {
			return // the model is slow
		}
		b := fuzzed(t, client)
		from := len(b.m.log)
		events := b.recv(came)
		b.open(added(), true)
		b.head(1, added(), false)
		b.data(1, "text", true)
		text := b.control()
		other := fuzzed(t, client)
		at = min(max(at, 0), len(came))
		again := append(other.recv(came[:at]), other.recv(came[at:])...)
		if !sameEvents(events, again) {
			t.Fatalf("P21.2: cut at %d: %s, want %s", at, shownEvents(again), shownEvents(events))
		}
		other.open(added(), true)
		other.head(1, added(), false)
		other.data(1, "text", true)
		if text != other.control() {
			t.Fatalf("P21.2: cut at %d other bytes are sent", at)
		}
		b.whole()
		other.whole()
		third := fuzzed(t, client)
		third.recv(came)
		holdAfterBytes(third, came, from)
	})
}

// FuzzCalls: two bytes a call, which one and with what; between them bytes that come.
func FuzzCalls(f *testing.F) {
	f.Add(true, "\x00\x01\x10\x03\x21\x05\x30\x07\x45\x09", "\x00\x00\x00\x04\x00\x00\x00\x00\x00")
	f.Add(false, "\x11\x01\x20\x03\x31\x01\x32\x02\x40\x04\x51\x00\x60\x01", bytes(dataFrame(1, "x", true), headersFrame(7, requestBlock, true)))
	f.Fuzz(func(t *testing.T, client bool, calls, came string) {
		b := fuzzed(t, client)
		sent := ""
		for i := 0; i+1 < min(len(calls), 120); i += 2 {
			what, with := calls[i], calls[i+1]
			id, end, text := int64(with&15)-1, with&16 > 0, ""
			switch what & 7 {
			case 0:
				_, text, _ = b.open(added()[:with&1], end)
			case 1:
				text, _ = b.head(id, added(), end)
			case 2:
				_, text, _ = b.promise(id, added())
			case 3:
				_, text, _ = b.data(id, long(int(what>>3)), end)
			case 4:
				b.reset(id, int64(with>>4)-1)
			case 5:
				fit, wrong := edgeSets()
				b.settings(append(fit, wrong...)[int(what^with)%(len(fit)+len(wrong))])
			case 6:
				text = b.control()
			default:
				n := min(len(came), int(with))
				b.recv(came[:n])
				came = came[n:]
			}
			sent += text
		}
		b.recv(came[:min(len(came), 4000)])
		b.whole()
		holdSent(b, sent+b.control(), false)
		if _, dead := b.c.Dead(); !dead {
			b.holdSums()
		}
	})
}
