package pack_test

import (
	"fmt"
	"slices"
	"strings"

	"herald/api"
	"herald/huff"
	"herald/table"
)

// The models take huff's code and the fixed entries for granted (the tests of
// huff and of table hold them against lists). They work on texts of noughts and
// ones, keep all numbers that SetMax was given, and take what stands in a block
// apart as a whole ahead of asking what any of it means.

const (
	longestText = 65536
	greatest    = 65536 // that a decoder's limit may be
)

type pair struct{ name, value string }

func pairSize(p pair) int64 { return int64(32 + len(p.name+p.value)) }

func pairsSize(list []pair) int64 {
	n := int64(0)
	for _, p := range list {
		n += pairSize(p)
	}
	return n
}

type modelTable struct {
	max    int64
	moving []pair // the newest first
}

func (m *modelTable) fit() {
	for pairsSize(m.moving) > m.max {
		m.moving = m.moving[:len(m.moving)-1]
	}
}

// add leaves nothing where the entry alone is above max, as the oldest go first.
func (m *modelTable) add(name, value string) {
	m.moving = append([]pair{{name, value}}, m.moving...)
	m.fit()
}

func (m *modelTable) resize(max int64) {
	m.max = max
	m.fit()
}

var fixedPairs = askFixed()

func askFixed() []pair {
	t, _ := table.New(0)
	var list []pair
	for i := 1; i <= 61; i++ {
		name, value, _ := t.At(i)
		list = append(list, pair{name, value})
	}
	return list
}

// all has the entry with the index i at i-1.
func (m *modelTable) all() []pair { return slices.Concat(fixedPairs, m.moving) }

// find tells 0 where there is none.
func (m *modelTable) find(name, value string) (int, bool) {
	list := m.all()
	if i := slices.Index(list, pair{name, value}); i >= 0 {
		return i + 1, true
	}
	return slices.IndexFunc(list, func(p pair) bool { return p.name == name }) + 1, false
}

// toBytes takes the noughts and ones eight by eight.
func toBytes(bits string) string {
	var out []byte
	for ; len(bits) >= 8; bits = bits[8:] {
		c := byte(0)
		for _, b := range bits[:8] {
			c = 2*c + byte(b-'0')
		}
		out = append(out, c)
	}
	return string(out)
}

func toBits(b string) string {
	var out strings.Builder
	for i := range len(b) {
		fmt.Fprintf(&out, "%08b", b[i])
	}
	return out.String()
}

// modelNumber tells the bytes of v behind a form's first bits.
func modelNumber(first string, v int64) string {
	ones := strings.Repeat("1", 8-len(first))
	full := int64(1)<<len(ones) - 1
	if v < full {
		return toBytes(first + fmt.Sprintf("%0*b", len(ones), v))
	}
	out := first + ones
	for v -= full; v >= 128; v /= 128 {
		out += "1" + fmt.Sprintf("%07b", v%128)
	}
	return toBytes(out + "0" + fmt.Sprintf("%07b", v))
}

func modelText(s string) string {
	code := huff.Encode(s)
	plain, coded := modelNumber("0", int64(len(s)))+s, modelNumber("1", int64(len(code)))+code
	if len(coded) < len(plain) {
		return coded
	}
	return plain
}

type modelEncoder struct {
	table modelTable
	maxes []int64 // that SetMax was given since the last block
}

func newModelEncoder() *modelEncoder { return &modelEncoder{table: modelTable{max: 4096}} }

func (m *modelEncoder) setMax(n int64) {
	switch {
	case n < 0:
		n = 0
	case n > 4096:
		n = 4096
	}
	m.maxes = append(m.maxes, n)
}

func (m *modelEncoder) encode(list []api.Field) (string, api.Errno) {
	for _, f := range list {
		if len(f.Name) > longestText || len(f.Value) > longestText {
			return "", api.ErrLong
		}
	}
	out := m.changes()
	for _, f := range list {
		i, whole := m.table.find(f.Name, f.Value)
		literal := modelText(f.Value)
		if i == 0 {
			literal = modelText(f.Name) + literal
		}
		switch {
		case f.Never:
			out += modelNumber("0001", int64(i)) + literal
		case whole:
			out += modelNumber("1", int64(i))
		case pairSize(pair{f.Name, f.Value}) > m.table.max:
			out += modelNumber("0000", int64(i)) + literal
		default:
			out += modelNumber("01", int64(i)) + literal
			m.table.add(f.Name, f.Value)
		}
	}
	return out, api.OK
}

func (m *modelEncoder) changes() string {
	if len(m.maxes) == 0 {
		return ""
	}
	old, last, least := m.table.max, m.maxes[len(m.maxes)-1], slices.Min(m.maxes)
	m.maxes = nil
	var told []int64
	if least < old && least < last {
		told = []int64{least, last}
	} else if last != old {
		told = []int64{last}
	}
	out := ""
	for _, max := range told {
		out += modelNumber("001", max)
		m.table.resize(max)
	}
	return out
}

// part is one thing that stands in a block; its first bits are its form.
type part struct {
	first string
	v     int64
	texts []string
}

// numberIn tells the number that the bits say behind first, and what bits are
// left; false, where there is none that may be.
func numberIn(bits, first string) (int64, string, bool) {
	if len(bits) < 8 {
		return 0, "", false
	}
	low := bits[len(first):8]
	v := int64(0)
	for _, b := range low {
		v = 2*v + int64(b-'0')
	}
	bits = bits[8:]
	if strings.Contains(low, "0") {
		return v, bits, true
	}
	weight := int64(1)
	for range 5 {
		if bits == "" {
			return 0, "", false
		}
		group := int64(0)
		for _, b := range bits[1:8] {
			group = 2*group + int64(b-'0')
		}
		last := bits[0] == '0'
		v, weight, bits = v+group*weight, weight*128, bits[8:]
		if last {
			return v, bits, v <= 2147483647
		}
	}
	return 0, "", false
}

func textIn(bits string) (string, string, bool) {
	if bits == "" {
		return "", "", false
	}
	n, rest, ok := numberIn(bits, bits[:1])
	if !ok || 8*n > int64(len(rest)) {
		return "", "", false
	}
	s := toBytes(rest[:8*n])
	if bits[0] == '1' {
		var e api.Errno
		if s, e = huff.Decode(s); e != api.OK {
			return "", "", false
		}
	}
	return s, rest[8*n:], len(s) <= longestText
}

// partIn tells how many texts there are by the form and by the number alone.
func partIn(bits string) (part, string, bool) {
	p := part{}
	for _, first := range []string{"0001", "0000", "001", "01", "1"} {
		if strings.HasPrefix(bits, first) {
			p.first = first
		}
	}
	var ok bool
	if p.v, bits, ok = numberIn(bits, p.first); !ok {
		return part{}, "", false
	}
	texts := 0
	if p.first != "1" && p.first != "001" {
		texts = 1
		if p.v == 0 {
			texts = 2
		}
	}
	for range texts {
		s := ""
		if s, bits, ok = textIn(bits); !ok {
			return part{}, "", false
		}
		p.texts = append(p.texts, s)
	}
	return p, bits, true
}

// partsOf tells all parts up to the first that isn't one, and whether that is all.
func partsOf(block string) ([]part, bool) {
	var list []part
	for bits := toBits(block); bits != ""; {
		p, rest, ok := partIn(bits)
		if !ok {
			return list, false
		}
		list, bits = append(list, p), rest
	}
	return list, true
}

type modelDecoder struct {
	table  modelTable
	limit  int64
	broken bool
}

func newModelDecoder() *modelDecoder {
	return &modelDecoder{table: modelTable{max: 4096}, limit: 4096}
}

func (m *modelDecoder) setMax(n int64) {
	switch {
	case n < 0:
		n = 0
	case n > greatest:
		n = greatest
	}
	m.limit = n
}

func (m *modelDecoder) decode(block string, most int64) ([]api.Field, api.Errno) {
	if m.broken {
		return nil, api.ErrBlock
	}
	list, ok := m.read(block)
	if !ok {
		m.broken = true
		return nil, api.ErrBlock
	}
	sum := int64(0)
	for _, f := range list {
		sum += pairSize(pair{f.Name, f.Value})
	}
	if sum > most {
		return nil, api.ErrList
	}
	return list, api.OK
}

func (m *modelDecoder) read(block string) ([]api.Field, bool) {
	// A change of the max that isn't whole is a fault too, so it doesn't matter
	// here that it is none of the parts.
	parts, whole := partsOf(block)
	if m.table.max > m.limit && (len(parts) == 0 || parts[0].first != "001") {
		return nil, false
	}
	var list []api.Field
	for at, p := range parts {
		if p.first == "001" {
			if at > 1 || len(list) > 0 || p.v > m.limit {
				return nil, false
			}
			m.table.resize(p.v)
			continue
		}
		f, ok := m.field(p)
		if !ok {
			return nil, false
		}
		list = append(list, f)
	}
	return list, whole
}

func (m *modelDecoder) field(p part) (api.Field, bool) {
	entry := pair{}
	if p.v > 0 || p.first == "1" {
		all := m.table.all()
		if p.v == 0 || p.v > int64(len(all)) {
			return api.Field{}, false
		}
		entry = all[p.v-1]
	}
	if len(p.texts) > 0 {
		entry.value = p.texts[len(p.texts)-1]
	}
	if len(p.texts) > 1 {
		entry.name = p.texts[0]
	}
	if p.first == "01" {
		m.table.add(entry.name, entry.value)
	}
	return api.Field{Name: entry.name, Value: entry.value, Never: p.first == "0001"}, true
}
