package client_test

import (
	"fmt"
	"slices"
	"strings"

	"herald/api"
	"herald/feed"
	"herald/frame"
	"herald/lists"
	"herald/pack"
)

// ear is what a server hears of a client's bytes: it knows no states and no
// windows, and takes down what came on each stream.
type ear struct {
	in      *feed.Feed
	dec     *pack.Decoder
	head    api.Frame // of the block under way
	block   string
	last    int64 // the greatest stream that was opened
	streams map[int64]*heard
}

// heard is all that came on one stream.
type heard struct {
	head    []api.Field
	body    string
	isEnded bool
	resets  []int64 // their codes
}

func newEar() *ear {
	return &ear{in: feed.New(true, api.MaxFrame), dec: pack.NewDecoder(), streams: map[int64]*heard{}}
}

func (x *ear) stream(id int64) *heard {
	if x.streams[id] == nil {
		x.streams[id] = &heard{}
	}
	return x.streams[id]
}

// hear is what some bytes tell, frames of at most so many; what is wrong with them,
// if something is.
func (x *ear) hear(text string, most int64) ([]api.Event, string) {
	x.in.SetMost(most)
	x.in.Push(text)
	var events []api.Event
	for {
		f, is, fault := x.in.Next()
		if fault != (api.Fault{}) {
			return nil, fmt.Sprintf("sent is what is no frame: %v", fault)
		}
		if !is {
			break
		}
		e, wrong := x.frame(f)
		if wrong != "" {
			return nil, wrong
		}
		if e.Kind > 0 {
			events = append(events, e)
		}
	}
	if x.in.Waiting() > 0 || x.head.Stream > 0 {
		return nil, "half a frame, or half a block, is sent"
	}
	return events, ""
}

func (x *ear) frame(f api.Frame) (api.Event, string) {
	end := f.Flags&api.EndStream > 0
	if (f.Type == api.FrameContinuation) != (x.head.Stream > 0) {
		return api.Event{}, "a block is cut, or none is under way"
	}
	switch f.Type {
	case api.FrameData:
		h := x.stream(f.Stream)
		if h.head == nil || h.isEnded || len(h.resets) > 0 || f.Data == "" {
			return api.Event{}, fmt.Sprintf("DATA may not come: %+v", f)
		}
		h.body, h.isEnded = h.body+f.Data, end
		return dataEvent(f.Stream, f.Data, end), ""
	case api.FrameHeaders:
		x.head, x.block = f, ""
		return x.piece(f)
	case api.FrameContinuation:
		return x.piece(f)
	case api.FrameReset:
		h := x.stream(f.Stream)
		h.resets = append(h.resets, f.Code)
		if len(h.resets) > 1 || f.Stream%2 == 1 && h.head == nil {
			return api.Event{}, fmt.Sprintf("P23.5: stream %d is reset twice, or ahead of its head", f.Stream)
		}
		return resetEvent(f.Stream, f.Code), ""
	case api.FrameSettings:
		if end {
			return acked(), ""
		}
		return settled(), ""
	case api.FrameGoAway:
		return api.Event{Kind: api.EventGoAway, Stream: f.Last, Code: f.Code}, ""
	case api.FramePromise:
		return api.Event{}, "a client promises"
	}
	return api.Event{}, ""
}

// piece puts a block together, and tells it when it is whole.
func (x *ear) piece(f api.Frame) (api.Event, string) {
	x.block += f.Data
	if f.Flags&api.EndHeaders == 0 {
		return api.Event{}, ""
	}
	head := x.head
	x.head = api.Frame{}
	fields, e := x.dec.Decode(x.block, api.MaxInt)
	if e != api.OK {
		return api.Event{}, fmt.Sprintf("a block that can't be unpacked: %d", e)
	}
	if head.Stream <= x.last || head.Stream%2 == 0 {
		return api.Event{}, fmt.Sprintf("behind stream %d comes a head of %d", x.last, head.Stream)
	}
	x.last = head.Stream
	h := x.stream(head.Stream)
	h.head, h.isEnded = fields, head.Flags&api.EndStream > 0
	return headEvent(head.Stream, fields, h.isEnded), ""
}

func sameEntry(a, b api.Entry) bool { return a.Sent == b.Sent && sameFrame(a.F, b.F) }

func sameFrame(a, b api.Frame) bool {
	return a.Type == b.Type && a.Flags == b.Flags && a.Stream == b.Stream && a.Data == b.Data && a.Pad == b.Pad && a.Dep == b.Dep &&
		a.Excl == b.Excl && a.Weight == b.Weight && a.Code == b.Code && a.Last == b.Last && slices.Equal(a.Params, b.Params)
}

func sameEvent(a, b api.Event) bool {
	return a.Kind == b.Kind && a.Stream == b.Stream && a.Promised == b.Promised && lists.Same(a.Fields, b.Fields) && a.Data == b.Data && a.End == b.End && a.Code == b.Code
}

func sameEvents(a, b []api.Event) bool { return slices.EqualFunc(a, b, sameEvent) }

func shownEvents(l []api.Event) string {
	var all []string
	for _, e := range l {
		all = append(all, fmt.Sprintf("{kind %d stream %d %s %s end %v code %d}", e.Kind, e.Stream, lists.Shown(e.Fields), lists.ShownText(e.Data), e.End, e.Code))
	}
	return "[" + strings.Join(all, " ") + "]"
}

func sameAnswer(a, b api.Answer) bool {
	return a.Number == b.Number && a.Cached == b.Cached && a.Stream == b.Stream && lists.SameResponse(a.Response, b.Response) && a.Code == b.Code
}

func sameAnswers(a, b []api.Answer) bool { return slices.EqualFunc(a, b, sameAnswer) }

func shownAnswers(l []api.Answer) string {
	var all []string
	for _, a := range l {
		all = append(all, fmt.Sprintf("{%d cached %v stream %d %s code %d}", a.Number, a.Cached, a.Stream, lists.ShownResponse(a.Response), a.Code))
	}
	return "[" + strings.Join(all, " ") + "]"
}

func shownBytes(text string) string {
	if len(text) > 120 {
		return fmt.Sprintf("% x .. (%d bytes)", text[:120], len(text))
	}
	return fmt.Sprintf("% x", text)
}

// bytes are those of right frames.
func bytes(frames ...api.Frame) string {
	var text strings.Builder
	for _, f := range frames {
		b, e := frame.Write(f)
		if e != api.OK {
			panic(fmt.Sprintf("a test writes a wrong frame: %+v", f))
		}
		text.WriteString(b)
	}
	return text.String()
}

// raw are those of any frame, a wrong one too.
func raw(kind, flags byte, id uint32, payload string) string {
	n := len(payload)
	return string([]byte{byte(n >> 16), byte(n >> 8), byte(n), kind, flags, byte(id >> 24), byte(id >> 16), byte(id >> 8), byte(id)}) + payload
}

// blockOf packs a list without any table.
func blockOf(l []api.Field) string {
	var b strings.Builder
	for _, f := range l {
		b.WriteByte(0)
		for _, s := range []string{f.Name, f.Value} {
			b.WriteString(lengthOf(len(s)))
			b.WriteString(s)
		}
	}
	return b.String()
}

// lengthOf is a text's length as it stands ahead of the text.
func lengthOf(n int) string {
	if n < 127 {
		return string([]byte{byte(n)})
	}
	b := []byte{127}
	for n -= 127; n > 127; n >>= 7 {
		b = append(b, byte(n&127|128))
	}
	return string(append(b, byte(n)))
}

func settingsFrame(params ...api.Param) api.Frame {
	return api.Frame{Type: api.FrameSettings, Params: params}
}

func param(id int, value int64) api.Param { return api.Param{ID: id, Value: value} }

func ackFrame() api.Frame { return api.Frame{Type: api.FrameSettings, Flags: api.Ack} }

func dataFrame(id int64, data string, end bool) api.Frame {
	return api.Frame{Type: api.FrameData, Flags: endFlag(end), Stream: id, Data: data}
}

// headersFrame is whole.
func headersFrame(id int64, l []api.Field, end bool) api.Frame {
	return api.Frame{Type: api.FrameHeaders, Flags: api.EndHeaders | endFlag(end), Stream: id, Data: blockOf(l)}
}

// promiseFrame is whole.
func promiseFrame(id, promised int64, l []api.Field) api.Frame {
	return api.Frame{Type: api.FramePromise, Flags: api.EndHeaders, Stream: id, Last: promised, Data: blockOf(l)}
}

func resetFrame(id, code int64) api.Frame {
	return api.Frame{Type: api.FrameReset, Stream: id, Code: code}
}

func windowFrame(id, n int64) api.Frame {
	return api.Frame{Type: api.FrameWindow, Stream: id, Last: n}
}

func goAwayFrame(last, code int64) api.Frame {
	return api.Frame{Type: api.FrameGoAway, Last: last, Code: code}
}

func pingFrame(data string) api.Frame { return api.Frame{Type: api.FramePing, Data: data} }

func endFlag(end bool) int {
	if end {
		return api.EndStream
	}
	return 0
}

func headEvent(id int64, fields []api.Field, end bool) api.Event {
	return api.Event{Kind: api.EventHead, Stream: id, Fields: fields, End: end}
}

func dataEvent(id int64, data string, end bool) api.Event {
	return api.Event{Kind: api.EventData, Stream: id, Data: data, End: end}
}

func resetEvent(id, code int64) api.Event {
	return api.Event{Kind: api.EventReset, Stream: id, Code: code}
}

func goneAway(last, code int64) api.Event {
	return api.Event{Kind: api.EventGoAway, Stream: last, Code: code}
}

func settled() api.Event { return api.Event{Kind: api.EventSettings} }

func acked() api.Event { return api.Event{Kind: api.EventAck} }
