package names

import "dragoman/api"

// entry is a kind, and its names, the first one first.
type entry struct {
	kind  int
	names []string
}

// list is the chapter's list, its kinds rising, its names in large letters. It is made by a function, since it has too many rows for a table at package level; so nothing of it is kept, and an answer may be a part of it.
func list() []entry {
	return []entry{
		{api.ASCII, []string{"ASCII", "US-ASCII", "ISO646-US", "ANSI_X3.4-1968", "646"}},
		{api.UTF8, []string{"UTF-8", "UTF8"}},
		{api.UTF16BE, []string{"UTF-16BE"}}, {api.UTF16LE, []string{"UTF-16LE"}}, {api.UTF16, []string{"UTF-16"}},
		{api.UTF32BE, []string{"UTF-32BE", "UCS-4BE"}},
		{api.UTF32LE, []string{"UTF-32LE", "UCS-4LE"}},
		{api.UTF32, []string{"UTF-32", "UCS-4"}},
		{api.UCS2BE, []string{"UCS-2BE", "UNICODEBIG"}},
		{api.UCS2LE, []string{"UCS-2LE", "UNICODELITTLE"}},
		{api.UTF7, []string{"UTF-7", "UNICODE-1-1-UTF-7"}},
		{api.ISO1, []string{"ISO-8859-1", "ISO8859-1", "LATIN1"}},
		{api.ISO2, []string{"ISO-8859-2", "ISO8859-2", "LATIN2"}},
		{api.ISO3, []string{"ISO-8859-3", "ISO8859-3", "LATIN3"}},
		{api.ISO4, []string{"ISO-8859-4", "ISO8859-4", "LATIN4"}},
		{api.ISO5, []string{"ISO-8859-5", "ISO8859-5", "CYRILLIC"}},
		{api.ISO6, []string{"ISO-8859-6", "ISO8859-6", "ARABIC"}},
		{api.ISO7, []string{"ISO-8859-7", "ISO8859-7", "GREEK"}},
		{api.ISO8, []string{"ISO-8859-8", "ISO8859-8", "HEBREW"}},
		{api.ISO9, []string{"ISO-8859-9", "ISO8859-9", "LATIN5"}},
		{api.ISO10, []string{"ISO-8859-10", "ISO8859-10", "LATIN6"}},
		{api.ISO11, []string{"ISO-8859-11", "ISO8859-11", "THAI"}},
		{api.ISO13, []string{"ISO-8859-13", "ISO8859-13", "LATIN7"}},
		{api.ISO14, []string{"ISO-8859-14", "ISO8859-14", "LATIN8"}},
		{api.ISO15, []string{"ISO-8859-15", "ISO8859-15", "LATIN-9"}},
		{api.ISO16, []string{"ISO-8859-16", "ISO8859-16", "LATIN10"}},
		{api.KOI8R, []string{"KOI8-R"}}, {api.KOI8U, []string{"KOI8-U"}},
		{api.CP1250, []string{"WINDOWS-1250", "CP1250"}},
		{api.CP1251, []string{"WINDOWS-1251", "CP1251"}},
		{api.CP1252, []string{"WINDOWS-1252", "CP1252"}},
		{api.CP1253, []string{"WINDOWS-1253", "CP1253"}},
		{api.CP1254, []string{"WINDOWS-1254", "CP1254"}},
		{api.CP1255, []string{"WINDOWS-1255", "CP1255"}},
		{api.CP1256, []string{"WINDOWS-1256", "CP1256"}},
		{api.CP1257, []string{"WINDOWS-1257", "CP1257"}},
		{api.CP1258, []string{"WINDOWS-1258", "CP1258"}},
		{api.CP437, []string{"IBM437", "CP437", "437"}},
		{api.CP850, []string{"IBM850", "CP850", "850"}},
		{api.CP852, []string{"IBM852", "CP852", "852"}},
		{api.CP855, []string{"IBM855", "CP855", "855"}},
		{api.CP866, []string{"IBM866", "CP866", "866"}},
		{api.MacRoman, []string{"MACINTOSH", "MACROMAN", "MAC"}},
		{api.MacCyr, []string{"MACCYRILLIC"}},
		{api.CP037, []string{"IBM037", "CP037", "EBCDIC-CP-US"}},
		{api.CP500, []string{"IBM500", "CP500", "EBCDIC-CP-BE"}},
		{api.CP1026, []string{"IBM1026", "CP1026"}},
		{api.JIS0201, []string{"JIS_X0201", "JISX0201-1976", "X0201"}},
		{api.EUCJP, []string{"EUC-JP", "EUCJP"}},
		{api.ShiftJIS, []string{"SHIFT_JIS", "SHIFT-JIS", "SJIS", "MS_KANJI"}},
		{api.ISO2022JP, []string{"ISO-2022-JP"}},
		{api.EUCCN, []string{"EUC-CN", "EUCCN", "GB2312", "CN-GB"}},
		{api.HZ, []string{"HZ", "HZ-GB-2312"}},
		{api.EUCKR, []string{"EUC-KR", "EUCKR"}},
		{api.JOHAB, []string{"JOHAB", "CP1361"}},
		{api.ISO2022KR, []string{"ISO-2022-KR"}},
	}
}
